package statement

import (
	"slices"
	"strconv"
	"strings"

	"giro/api"
	"giro/date"
)

const (
	maxText   = 1 << 24
	maxDigits = 18
)

// scanner reads the lines of a text into a statement.
type scanner struct {
	statement Statement
	expected  []string // the first words that are possible in the next line
}

// Parse returns the statement of a text, or the number of the first erroneous line and its error.
func Parse(s string) (Statement, int, api.Errno) {
	if len(s) > maxText {
		return Statement{}, 0, api.ErrLong
	}
	p := &scanner{expected: []string{"statement"}}
	forms := p.forms()
	line := 0
	for len(p.expected) > 0 {
		line++
		text, rest, ended := strings.Cut(s, "\n")
		if !ended {
			return Statement{}, line, api.ErrShort
		}
		s = rest
		words := strings.Split(text, " ")
		if !slices.Contains(p.expected, words[0]) || !forms[words[0]](words[1:]) {
			return Statement{}, line, api.ErrSyntax
		}
	}
	if s != "" {
		return Statement{}, line + 1, api.ErrLong
	}
	if e := p.statement.Check(); e != api.OK {
		return Statement{}, 0, e
	}
	return p.statement, 0, api.OK
}

// forms returns the functions that read a line after its first word; they report whether the line has its form.
func (p *scanner) forms() map[string]func(words []string) bool {
	return map[string]func(words []string) bool{
		"statement": p.head,
		"account":   p.account,
		"entry":     p.entry,
		"closing":   p.closing,
		"end":       p.end,
	}
}

func (p *scanner) head(words []string) bool {
	if len(words) != 2 || words[0] == "" {
		return false
	}
	day, e := date.Parse(words[1])
	p.statement.Member, p.statement.Day = words[0], day
	p.expected = []string{"account", "end"}
	return e == api.OK
}

func (p *scanner) account(words []string) bool {
	if len(words) != 4 || words[1] == "" || words[2] != "opening" {
		return false
	}
	kind, isKind := kindOf(words[0])
	opening, isNumber := number(words[3])
	p.statement.Sections = append(p.statement.Sections, Section{Kind: kind, Asset: words[1], Opening: opening})
	p.expected = []string{"entry", "closing"}
	return isKind && isNumber
}

func (p *scanner) entry(words []string) bool {
	if len(words) != 5 || words[2] == "" {
		return false
	}
	var numbers [4]int64
	for n, k := range [4]int{0, 1, 3, 4} {
		x, isNumber := number(words[k])
		if !isNumber {
			return false
		}
		numbers[n] = x
	}
	last := p.last()
	last.Entries = append(last.Entries, Entry{int(numbers[0]), int(numbers[1]), words[2], numbers[2], numbers[3]})
	return true
}

func (p *scanner) closing(words []string) bool {
	if len(words) != 1 {
		return false
	}
	x, isNumber := number(words[0])
	p.last().Closing = x
	p.expected = []string{"account", "end"}
	return isNumber
}

func (p *scanner) end(words []string) bool {
	p.expected = nil
	return len(words) == 0
}

// last returns the last section.
func (p *scanner) last() *Section { return &p.statement.Sections[len(p.statement.Sections)-1] }

// kindOf returns the kind of accounts with a name.
func kindOf(s string) (int, bool) {
	for kind, name := range kindNames {
		if name == s {
			return kind, true
		}
	}
	return 0, false
}

// number returns the number with a canonical text.
func number(s string) (int64, bool) {
	if len(strings.TrimPrefix(s, "-")) > maxDigits {
		return 0, false
	}
	x, e := strconv.ParseInt(s, 10, 64)
	if e != nil || decimal(x) != s {
		return 0, false
	}
	return x, true
}
