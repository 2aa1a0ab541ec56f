package lexer_test

import (
	"regexp"
	"slices"
	"strings"
	"testing"

	"giro/api"
	"giro/lexer"
)

// forms are the kinds in the order of the chapter.
var forms = []struct {
	kind int
	form *regexp.Regexp
}{
	{lexer.Date, regexp.MustCompile(`\A[0-9]{4}-[0-9]{2}-[0-9]{2}\z`)},
	{lexer.Number, regexp.MustCompile(`\A(0|[1-9][0-9]{0,15})\z`)},
	{lexer.Decimal, regexp.MustCompile(`\A-?(0|[1-9][0-9]*)\.[0-9]{2}\z`)},
	{lexer.Name, regexp.MustCompile(`\A[A-Z0-9-]+\z`)},
	{lexer.Word, regexp.MustCompile(`\A[a-z]+\z`)},
}

func classify(s string) (int, api.Errno) {
	if len(s) > 32 {
		return 0, api.ErrLong
	}
	for _, f := range forms {
		if f.form.MatchString(s) && s != "-0.00" {
			return f.kind, api.OK
		}
	}
	return 0, api.ErrSyntax
}

// texts returns many short strings over an alphabet that matters.
func texts() []string {
	l := []string{"", "2026-11-16", "2026-1-16", "2026-11-1A", "20261116", "0000-00-00", "2026-11-160", "2026/11/16", "9999999999999999", "99999999999999999", "0", "007", "-1", "-1.50",
		"-0.00", "-0.01", "0.00", "00.00", "1.5", "1.500", "1..00", ".00", "-.00", "--1.00", "1.00-", "1.00.00", "1.-0", "99999999999999999999999999999.00", "A_", "aA", "aé", "x\n", "\x00", "#", "a#",
		strings.Repeat("A", 32), strings.Repeat("A", 33), strings.Repeat("a", 32), strings.Repeat("é", 17), strings.Repeat("9", 32)}
	alphabet := "aZ09.-# "
	for n := range 8 * 8 * 8 * 8 {
		s := ""
		for x := n; x > 0; x /= 8 {
			s += alphabet[x%8 : x%8+1]
		}
		l = append(l, s)
	}
	return l
}

// P17.1
func TestClassify(t *testing.T) {
	for _, s := range texts() {
		kind, e := lexer.Classify(s)
		if k, want := classify(s); kind != k || e != want {
			t.Errorf("Classify(%q) = %d, %d, want %d, %d", s, kind, e, k, want)
		}
	}
	for c := range 256 {
		s := string([]byte{byte(c)})
		kind, e := lexer.Classify(s)
		if k, want := classify(s); kind != k || e != want {
			t.Errorf("Classify(%q) = %d, %d", s, kind, e)
		}
	}
}

func tokens(l ...lexer.Token) []lexer.Token { return l }

// P17.2
func TestTokenize(t *testing.T) {
	w := func(s string, at int) lexer.Token { return lexer.Token{Kind: lexer.Word, Text: s, At: at} }
	for _, x := range []struct {
		line string
		l    []lexer.Token
		at   int
		e    api.Errno
	}{
		{"", nil, 0, api.OK}, {" \t ", nil, 0, api.OK}, {"#", nil, 0, api.OK}, {"  # x ? !", nil, 0, api.OK},
		{"a b", tokens(w("a", 0), w("b", 2)), 0, api.OK}, {"\ta \t b \t", tokens(w("a", 1), w("b", 5)), 0, api.OK},
		{"a #b", tokens(w("a", 0)), 0, api.OK}, {"a\t#?", tokens(w("a", 0)), 0, api.OK}, {"#a", nil, 0, api.OK},
		{"a#", nil, 0, api.ErrSyntax}, {"ab c#d # x", nil, 3, api.ErrSyntax}, {"a b? c?", nil, 2, api.ErrSyntax}, {"a\n", nil, 0, api.ErrSyntax},
		{"a " + strings.Repeat("x", 33) + " ?", nil, 2, api.ErrLong}, {"? " + strings.Repeat("x", 33), nil, 0, api.ErrSyntax},
		{strings.Repeat(" ", 1024), nil, 0, api.OK}, {"?" + strings.Repeat(" ", 1024), nil, lexer.MaxLine, api.ErrLong}, {strings.Repeat(" ", 1023) + "a", tokens(w("a", 1023)), 0, api.OK},
		{strings.Repeat(" ", 1024) + "#", nil, lexer.MaxLine, api.ErrLong},
	} {
		l, at, e := lexer.Tokenize(x.line)
		if !slices.Equal(l, x.l) || at != x.at || e != x.e {
			t.Errorf("Tokenize(%q) = %v, %d, %d, want %v, %d, %d", x.line, l, at, e, x.l, x.at, x.e)
		}
	}
}

// P17.3 P17.5
func TestJoin(t *testing.T) {
	for _, s := range texts() {
		l, _, e := lexer.Tokenize(s)
		if e != api.OK {
			continue
		}
		line, e := lexer.Join(l)
		fields := strings.Fields(strings.SplitN(" "+s, " #", 2)[0])
		if line != strings.Join(fields, " ") || e != api.OK {
			t.Errorf("Join of %q = %q, %d", s, line, e)
		}
		back, _, e := lexer.Tokenize(line)
		if !lexer.Equal(back, l) || e != api.OK {
			t.Errorf("tokens of %q", line)
		}
	}
	full := make([]lexer.Token, 31)
	for i := range full {
		full[i] = lexer.Token{Kind: lexer.Name, Text: strings.Repeat("A", 32), At: -7}
	}
	longest := append(slices.Clone(full), lexer.Token{Kind: lexer.Word, Text: "a"})
	if line, e := lexer.Join(longest); len(line) != 1024 || e != api.OK {
		t.Error("longest line", len(line), e)
	}
	for _, x := range []struct {
		l []lexer.Token
		e api.Errno
	}{
		{append(slices.Clone(full), lexer.Token{Kind: lexer.Word, Text: "ab"}), api.ErrLong},
		{append(slices.Clone(longest), lexer.Token{Kind: lexer.Word, Text: "A"}), api.ErrSyntax},
		{tokens(lexer.Token{Kind: lexer.Name, Text: "7"}), api.ErrSyntax}, {tokens(lexer.Token{Kind: lexer.Word, Text: ""}), api.ErrSyntax},
		{tokens(lexer.Token{Kind: lexer.Word, Text: "?"}), api.ErrSyntax}, {tokens(lexer.Token{Kind: lexer.Word, Text: strings.Repeat("a", 33)}), api.ErrSyntax},
		{tokens(lexer.Token{Kind: lexer.Word, Text: "a b"}), api.ErrSyntax}, {tokens(lexer.Token{Kind: 9, Text: "a"}), api.ErrSyntax},
	} {
		if line, e := lexer.Join(x.l); line != "" || e != x.e {
			t.Errorf("Join(%v) = %q, %d, want %d", x.l, line, e, x.e)
		}
	}
	if line, e := lexer.Join(nil); line != "" || e != api.OK {
		t.Error("Join(nil)", line, e)
	}
}

// P17.3
func TestEqual(t *testing.T) {
	a := tokens(lexer.Token{Kind: 0, Text: "a", At: 5}, lexer.Token{Kind: 1, Text: "B"})
	for _, x := range []struct {
		l    []lexer.Token
		want bool
	}{
		{tokens(lexer.Token{Kind: 0, Text: "a"}, lexer.Token{Kind: 1, Text: "B", At: 9}), true}, {a[:1], false}, {nil, false},
		{tokens(lexer.Token{Kind: 1, Text: "a"}, lexer.Token{Kind: 1, Text: "B"}), false}, {tokens(lexer.Token{Kind: 0, Text: "b"}, lexer.Token{Kind: 1, Text: "B"}), false},
	} {
		if lexer.Equal(a, x.l) != x.want || lexer.Equal(x.l, a) != x.want {
			t.Error("Equal", x.l)
		}
	}
	if !lexer.Equal(nil, tokens()) {
		t.Error("nil and empty")
	}
}

// P17.4
func TestLines(t *testing.T) {
	for _, x := range []struct {
		s string
		l []string
	}{
		{"", nil}, {"\n", []string{""}}, {"a", []string{"a"}}, {"a\n", []string{"a"}}, {"a\n\n", []string{"a", ""}}, {"\na", []string{"", "a"}},
		{" \ta b\t \n#x\n a # b\nc#d #e\r\n", []string{"a b", "", "a", "c#d"}}, {"a\r\n", []string{"a\r"}}, {"a #\n#", []string{"a", ""}}, {"?\x00 \t#\n ", []string{"?\x00", ""}},
	} {
		if got := lexer.Lines(x.s); !slices.Equal(got, x.l) {
			t.Errorf("Lines(%q) = %q, want %q", x.s, got, x.l)
		}
	}
}

// P17.5
func TestIdentifiers(t *testing.T) {
	for s, kind := range map[string]int{"US0378331005": lexer.Name, "BANKA": lexer.Name, "A-1": lexer.Name, "0123456789ABCDEF": lexer.Name, "1234567890123456": lexer.Number, "01": lexer.Name, "2026-11-16": lexer.Date, "-": lexer.Name} {
		if got, e := lexer.Classify(s); got != kind || e != api.OK {
			t.Error(s, got, e)
		}
	}
	a, _, _ := lexer.Tokenize("pay  P1\tamount 1.00#")
	b, _, _ := lexer.Tokenize("\tpay P1 amount\t1.00 # x")
	if len(a) != 0 || len(b) != 4 {
		t.Error("comments")
	}
}

// Example 1
func TestExample(t *testing.T) {
	want := tokens(lexer.Token{Kind: 0, Text: "pay", At: 0}, lexer.Token{Kind: 1, Text: "P1", At: 4}, lexer.Token{Kind: 0, Text: "amount", At: 7},
		lexer.Token{Kind: 3, Text: "1500.00", At: 14}, lexer.Token{Kind: 0, Text: "day", At: 22}, lexer.Token{Kind: 4, Text: "2026-11-16", At: 26})
	l, _, e := lexer.Tokenize("pay P1 amount 1500.00 day 2026-11-16 # salary")
	if !slices.Equal(l, want) || e != api.OK {
		t.Error(l, e)
	}
}
