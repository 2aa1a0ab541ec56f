package console

import (
	"slices"
	"strings"

	"giro/amount"
	"giro/api"
	"giro/corpaction"
	"giro/date"
	"giro/engine"
	"giro/fraction"
	"giro/parser"
)

// maxName is the length of the longest name.
const maxName = 32

// requestWords are the first words of lines that layer 19 parses.
var requestWords = [9]string{"pay", "deliver", "receive", "pledge", "release", "amend", "cancel", "hold", "resume"}

// actionWords are the words for the kinds of corporate actions.
var actionWords = [corpaction.NumKinds]string{"dividend", "split", "merger", "rights", "redemption"}

// scanner reads the words of a line; its methods do nothing after the first failure.
type scanner struct {
	words  []string
	failed bool
}

// Parse returns the command that a line denotes.
func Parse(line string) (engine.Command, api.Errno) {
	words := wordsOf(line)
	if len(words) > 0 && isRequestWord(words[0]) {
		r, _, e := parser.Parse(line)
		if e != api.OK {
			return engine.Command{}, e
		}
		return engine.Command{Kind: engine.Submit, Request: r}, api.OK
	}
	s := &scanner{words: words}
	form, found := forms()[s.take()]
	if !found {
		return engine.Command{}, api.ErrSyntax
	}
	c := form(s)
	if s.failed || len(s.words) > 0 {
		return engine.Command{}, api.ErrSyntax
	}
	if e := c.Check(); e != api.OK {
		return engine.Command{}, e
	}
	return c, api.OK
}

// forms returns the functions that read a line after its first word.
func forms() map[string]func(s *scanner) engine.Command {
	return map[string]func(s *scanner) engine.Command{
		"time":      readTime,
		"member":    readMember,
		"security":  readSecurity,
		"price":     readPrice,
		"haircut":   readHaircut,
		"issue":     func(s *scanner) engine.Command { return readIssue(s, engine.Issue, "to") },
		"redeem":    func(s *scanner) engine.Command { return readIssue(s, engine.Redeem, "from") },
		"limit":     readLimit,
		"reserve":   func(s *scanner) engine.Command { return readReserve(s, engine.Reserve) },
		"unreserve": func(s *scanner) engine.Command { return readReserve(s, engine.Unreserve) },
		"auto":      readAuto,
		"action":    readAction,
		"withdraw":  func(s *scanner) engine.Command { return engine.Command{Kind: engine.Withdraw, From: s.name()} },
	}
}

// The forms of lines.

func readTime(s *scanner) engine.Command {
	return engine.Command{Kind: engine.Advance, Clock: s.clock()}
}

func readMember(s *scanner) engine.Command {
	c := engine.Command{Kind: engine.SetMember}
	c.Member.Code = s.name()
	if s.skip("lei") {
		c.Member.LEI = s.name()
	}
	c.Member.Active = s.oneOf("active", "inactive") == "active"
	return c
}

func readSecurity(s *scanner) engine.Command {
	c := engine.Command{Kind: engine.SetSecurity}
	c.Security.ISIN = s.name()
	s.oneOf("by")
	c.Security.Issuer = s.name()
	s.oneOf("lot")
	c.Security.Lot = s.number()
	c.Security.Active = s.oneOf("active", "inactive") == "active"
	return c
}

func readPrice(s *scanner) engine.Command {
	c := engine.Command{Kind: engine.SetPrice}
	c.Asset = s.name()
	c.Amount = s.cash()
	return c
}

func readHaircut(s *scanner) engine.Command {
	c := engine.Command{Kind: engine.SetHaircut}
	c.Asset = s.name()
	c.Ratio = s.fraction()
	return c
}

func readIssue(s *scanner, kind int, preposition string) engine.Command {
	c := engine.Command{Kind: kind}
	c.Asset = s.name()
	s.oneOf("by")
	c.From = s.name()
	s.oneOf(preposition)
	c.To = s.name()
	if c.Asset == api.Cash {
		c.Amount = s.cash()
	} else {
		c.Amount = s.number()
	}
	return c
}

func readLimit(s *scanner) engine.Command {
	c := engine.Command{Kind: engine.SetMultilateral}
	c.From = s.name()
	if s.skip("against") {
		c.Kind = engine.SetBilateral
		c.To = s.name()
	}
	if s.skip("none") {
		c.Amount = -1
	} else {
		c.Amount = s.cash()
	}
	return c
}

func readReserve(s *scanner, kind int) engine.Command {
	c := engine.Command{Kind: kind}
	c.From = s.name()
	c.Amount = s.cash()
	return c
}

func readAuto(s *scanner) engine.Command {
	c := engine.Command{Kind: engine.SetAuto}
	c.From = s.name()
	if s.oneOf("on", "off") == "on" {
		c.Amount = 1
	}
	return c
}

func readAction(s *scanner) engine.Command {
	c := engine.Command{Kind: engine.Announce}
	a := &c.Action
	word := s.take()
	a.Kind = slices.Index(actionList(), word)
	s.fail(a.Kind < 0)
	a.Id = s.name()
	s.oneOf("by")
	a.Issuer = s.name()
	s.oneOf("isin")
	a.Asset = s.name()
	if s.skip("into") {
		a.Into = s.name()
	}
	if s.skip("ratio") {
		a.Ratio = s.fraction()
	}
	if s.skip("cash") {
		a.Cash = s.fraction()
	}
	if s.skip("price") {
		a.Price = s.cash()
	}
	s.oneOf("ex")
	a.ExDay = s.day()
	s.oneOf("record")
	a.RecordDay = s.day()
	s.oneOf("pay")
	a.PayDay = s.day()
	return c
}

// wordsOf returns the words of a line before a comment.
func wordsOf(line string) []string {
	words := strings.FieldsFunc(line, func(r rune) bool { return r == ' ' || r == '\t' })
	for n, w := range words {
		if w[0] == '#' {
			return words[:n]
		}
	}
	return words
}

func isRequestWord(word string) bool {
	for _, w := range requestWords {
		if w == word {
			return true
		}
	}
	return false
}

// actionList returns the words for the kinds of corporate actions.
func actionList() []string {
	var l []string
	for _, w := range actionWords {
		l = append(l, w)
	}
	return l
}

// fail notes a failure.
func (s *scanner) fail(failed bool) { s.failed = s.failed || failed }

// take returns the next word.
func (s *scanner) take() string {
	if s.failed || len(s.words) == 0 {
		s.failed = true
		return ""
	}
	word := s.words[0]
	s.words = s.words[1:]
	return word
}

// skip takes the next word if it is a given one, and reports whether it is.
func (s *scanner) skip(word string) bool {
	if s.failed || len(s.words) == 0 || s.words[0] != word {
		return false
	}
	s.words = s.words[1:]
	return true
}

// oneOf takes a word, which must be one of several.
func (s *scanner) oneOf(words ...string) string {
	word := s.take()
	s.fail(!slices.Contains(words, word))
	return word
}

// name takes a name.
func (s *scanner) name() string {
	word := s.take()
	s.fail(!isName(word))
	return word
}

// cash takes an amount as layer 1 writes it.
func (s *scanner) cash() int64 {
	word := s.take()
	x, e := amount.Parse(word)
	text, _ := amount.Format(x)
	s.fail(e != api.OK || x < 0 || text != word)
	return x
}

// number takes a quantity.
func (s *scanner) number() int64 {
	x, e := parser.ParseQuantity(s.take())
	s.fail(e != api.OK)
	return x
}

func (s *scanner) fraction() fraction.Fraction {
	f, e := fraction.Parse(s.take())
	s.fail(e != api.OK)
	return f
}

func (s *scanner) day() int {
	day, e := date.Parse(s.take())
	s.fail(e != api.OK)
	return day
}

// clock takes a date and a time.
func (s *scanner) clock() api.Clock {
	day, minute := s.take(), s.take()
	c, e := date.ParseClock(day + " " + minute)
	s.fail(e != api.OK)
	return c
}

// isName reports whether a word consists of capital letters, digits and hyphens.
func isName(word string) bool {
	for i := range len(word) {
		letter := 'A' <= word[i] && word[i] <= 'Z'
		digit := '0' <= word[i] && word[i] <= '9'
		if !letter && !digit && word[i] != '-' {
			return false
		}
	}
	return 1 <= len(word) && len(word) <= maxName
}
