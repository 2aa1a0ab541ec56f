package statement_test

import (
	"slices"
	"strconv"
	"strings"
	"testing"

	"giro/api"
	"giro/history"
	"giro/merkle"
	"giro/statement"
)

type (
	entry   = statement.Entry
	section = statement.Section
	state   = statement.Statement
)

const (
	isin   = "US0378331005"
	other  = "CH0038863350"
	most   = int64(api.MaxAmount)
	monday = 9816
)

func acc(owner string, kind int, asset string) api.Account {
	return api.Account{Owner: owner, Kind: kind, Asset: asset}
}

func move(ref string, from, to api.Account, x int64) history.Part {
	return history.Part{Ref: ref, Postings: []api.Posting{{Account: from, Delta: -x}, {Account: to, Delta: x}}}
}

// record returns a history of bundles of two days.
func record(t *testing.T) *history.History {
	t.Helper()
	h := history.New()
	a, b, cb := acc("BANKA", api.Free, api.Cash), acc("BANKB", api.Free, api.Cash), acc("CB", api.Issued, api.Cash)
	u, v, i := acc("BANKA", api.Free, isin), acc("BANKA", api.Pledged, isin), acc("ISSUER", api.Issued, isin)
	for n, x := range []history.Bundle{
		{Clock: api.Clock{Day: monday - 3, Minute: 500}, Parts: []history.Part{move("issue", cb, a, 2000), move("issue", i, u, 9)}},
		{Clock: api.Clock{Day: monday - 3, Minute: 600}, Parts: []history.Part{move("P0", a, b, 500)}},
		{Clock: api.Clock{Day: monday, Minute: 605}, Parts: []history.Part{move("P1", a, b, 500), move("P2", b, a, 100)}},
		{Clock: api.Clock{Day: monday, Minute: 605}, Parts: []history.Part{move("P3", a, a, 7), move("P4", b, a, 1)}},
		{Clock: api.Clock{Day: monday, Minute: 700}, Parts: []history.Part{move("G1", u, v, 4)}},
		{Clock: api.Clock{Day: monday + 1, Minute: 0}, Parts: []history.Part{move("P5", a, b, 3), move("P6", acc("BANKA", api.Issued, other), acc("BANKB", api.Free, other), 3)}},
	} {
		x.Sequence = n + 1
		if e := h.Append(x); e != api.OK {
			t.Fatal(e)
		}
	}
	return h
}

func sample() state {
	return state{"BANKA", monday, []section{
		{api.Free, api.Cash, 1500, []entry{{3, 605, "P1", -500, 1000}, {3, 605, "P2", 100, 1100}, {4, 605, "P4", 1, 1101}}, 1101},
		{api.Free, isin, 9, []entry{{5, 700, "G1", -4, 5}}, 5},
		{api.Pledged, isin, 0, []entry{{5, 700, "G1", 4, 4}}, 4},
	}}
}

const sampleText = "statement BANKA 2026-11-16\naccount free CASH opening 1500\nentry 3 605 P1 -500 1000\nentry 3 605 P2 100 1100\nentry 4 605 P4 1 1101\nclosing 1101\n" +
	"account free US0378331005 opening 9\nentry 5 700 G1 -4 5\nclosing 5\naccount pledged US0378331005 opening 0\nentry 5 700 G1 4 4\nclosing 4\nend\n"

// P54.1 P54.5
func TestMake(t *testing.T) {
	h := record(t)
	s, e := statement.Make(h, "BANKA", monday)
	if !statement.Equal(s, sample()) || e != api.OK {
		t.Error(s, e)
	}
	later, _ := statement.Make(h, "BANKA", monday+1)
	if len(later.Sections) != 4 || later.Sections[0].Opening != 1101 || later.Sections[0].Closing != 1098 || later.Sections[1].Asset != other || later.Sections[1].Kind != api.Issued || later.Sections[1].Opening != 0 || later.Sections[3].Opening != 4 {
		t.Error(later)
	}
	if s, e := statement.Make(h, "BANKC", monday); len(s.Sections) != 0 || s.Member != "BANKC" || e != api.OK {
		t.Error("no accounts", s, e)
	}
	if s, e := statement.Make(h, "BANKA", monday-4); len(s.Sections) != 0 || e != api.OK {
		t.Error("before everything", s, e)
	}
	for n, x := range []struct {
		h      *history.History
		member string
		day    int
		e      api.Errno
	}{{nil, "", -1, api.ErrArgument}, {h, "CB", -1, api.ErrUnknown}, {h, "BANKA", -1, api.ErrDate}, {h, "BANKA", 73049, api.ErrDate}} {
		if s, e := statement.Make(x.h, x.member, x.day); !statement.Equal(s, state{}) || e != x.e {
			t.Error("error", n, e)
		}
	}
	strange := history.New()
	strange.Append(history.Bundle{Sequence: 1, Parts: []history.Part{move("a b", acc("BANKA", api.Free, api.Cash), acc("BANKB", api.Free, api.Cash), 5)}})
	if s, e := statement.Make(strange, "BANKA", 0); !statement.Equal(s, state{}) || e != api.ErrFormat {
		t.Error("reference", e)
	}
	huge := history.New()
	p := history.Part{Ref: "X"}
	for range 18447 {
		p.Postings = append(p.Postings, api.Posting{Account: acc("BANKA", 0, api.Cash), Delta: most}, api.Posting{Account: acc("BANKB", 0, api.Cash), Delta: -most})
	}
	q := history.Part{Ref: "Y"}
	for range 13000 {
		q.Postings = append(q.Postings, api.Posting{Account: acc("BANKA", 0, api.Cash), Delta: -most}, api.Posting{Account: acc("BANKB", 0, api.Cash), Delta: most})
	}
	r := history.Part{Ref: "Z", Postings: []api.Posting{}}
	for range 1 {
		r.Postings = append(r.Postings, api.Posting{Account: acc("BANKA", 0, api.Cash), Delta: -1}, api.Posting{Account: acc("BANKB", 0, api.Cash), Delta: 1})
	}
	if e := huge.Append(history.Bundle{Sequence: 1, Parts: []history.Part{p, q, r}}); e == api.OK {
		t.Error("the history accepts too much")
	}
	big := history.New()
	half := slices.Clone(p.Postings[:32768])
	var back []api.Posting
	for _, x := range half {
		back = append(back, api.Posting{Account: x.Account, Delta: -x.Delta})
	}
	big.Append(history.Bundle{Sequence: 1, Parts: []history.Part{{Ref: "X", Postings: half}, {Ref: "Y", Postings: back}}})
	if s, e := statement.Make(big, "BANKA", 0); big.Len() != 1 || !statement.Equal(s, state{}) || e != api.ErrRange {
		t.Error("sum of more than 64 bits", big.Len(), e)
	}
}

// P54.1
func TestCheck(t *testing.T) {
	one := func(change func(x *section)) state {
		x := section{api.Free, api.Cash, 0, []entry{{1, 0, "R", 5, 5}, {2, 3, "S", -5, 0}}, 0}
		change(&x)
		return state{"BANKA", 5, []section{x}}
	}
	long := strings.Repeat("r", 64)
	for n, x := range []struct {
		s state
		e api.Errno
	}{
		{sample(), api.OK}, {state{"BANKA", 5, nil}, api.OK}, {state{"", -1, nil}, api.ErrUnknown}, {state{"BANKA", -1, make([]section, 5000)}, api.ErrDate}, {state{"BANKA", 73049, nil}, api.ErrDate}, {state{"BANKA", 5, make([]section, 4097)}, api.ErrLimit}, {state{"BANKA", 5, []section{{Kind: 9, Entries: make([]entry, 65537)}}}, api.ErrLimit}, {state{"BANKA", 5, []section{{Kind: 9, Entries: make([]entry, 65536)}}}, api.ErrKind},
		{one(func(x *section) { x.Kind, x.Asset = -1, "" }), api.ErrKind}, {one(func(x *section) { x.Kind, x.Asset = 5, "" }), api.ErrKind}, {one(func(x *section) { x.Asset, x.Opening = "", most+1 }), api.ErrUnknown}, {state{"BANKA", 5, []section{{Asset: isin}, {Asset: api.Cash, Opening: most + 1}}}, api.ErrFormat}, {state{"BANKA", 5, []section{{Asset: isin}, {Asset: isin}}}, api.ErrFormat}, {state{"BANKA", 5, []section{{Asset: isin}, {Kind: 1, Asset: isin}}}, api.OK},
		{one(func(x *section) { x.Opening, x.Entries[0].Sequence = most+1, 0 }), api.ErrRange}, {one(func(x *section) { x.Opening = -most - 1 }), api.ErrRange}, {one(func(x *section) { x.Entries[0].Sequence, x.Entries[0].Minute = 0, -1 }), api.ErrSequence}, {one(func(x *section) { x.Entries[1].Sequence = 0 }), api.ErrSequence}, {one(func(x *section) { x.Entries[1].Sequence = 1000000000000001 }), api.ErrSequence}, {one(func(x *section) { x.Entries[1].Sequence = 1 }), api.OK}, {one(func(x *section) { x.Entries[0].Sequence = 3 }), api.ErrSequence},
		{one(func(x *section) { x.Entries[0].Minute, x.Entries[0].Ref = -1, "" }), api.ErrDate}, {one(func(x *section) { x.Entries[1].Minute = 1440 }), api.ErrDate}, {one(func(x *section) { x.Entries[0].Minute = 4 }), api.ErrDate}, {one(func(x *section) { x.Entries[0].Ref, x.Entries[0].Delta = "", 0 }), api.ErrFormat}, {one(func(x *section) { x.Entries[0].Ref = long + "r" }), api.ErrFormat}, {one(func(x *section) { x.Entries[0].Ref = long }), api.OK}, {one(func(x *section) { x.Entries[0].Ref = "a b" }), api.ErrFormat}, {one(func(x *section) { x.Entries[0].Ref = "\x7f" }), api.ErrFormat}, {one(func(x *section) { x.Entries[0].Ref = "!~" }), api.OK},
		{one(func(x *section) { x.Entries[0].Delta, x.Entries[0].Balance = 0, 1 }), api.ErrRange}, {one(func(x *section) { x.Entries[0].Delta = most + 1 }), api.ErrRange}, {one(func(x *section) { x.Entries[0].Balance = 900000000000000001 }), api.ErrRange}, {one(func(x *section) { x.Entries[0].Balance = 6 }), api.ErrUnbalanced}, {one(func(x *section) { x.Opening = 1 }), api.ErrUnbalanced}, {one(func(x *section) { x.Closing = most + 1 }), api.ErrUnbalanced},
		{one(func(x *section) {
			x.Entries = []entry{{1, 0, "R", most, most}, {1, 0, "R", 1, most + 1}}
			x.Closing = most + 1
		}), api.ErrRange}, {one(func(x *section) {
			x.Entries = []entry{{1, 0, "R", most, most}, {1, 0, "R", 1, most + 1}, {1, 0, "R", -1, most}}
			x.Closing = most
		}), api.OK},
	} {
		if e := x.s.Check(); e != x.e {
			t.Error("Check", n, e, "want", x.e)
		}
		text, e := x.s.Format()
		if e != x.e || (text == "") != (e != api.OK) {
			t.Error("Format", n, e)
		}
		if e == api.OK {
			if s, line, e := statement.Parse(text); !statement.Equal(s, x.s) || line != 0 || e != api.OK {
				t.Error("Parse", n, line, e)
			}
		}
	}
}

// P54.2
func TestText(t *testing.T) {
	text, e := sample().Format()
	if text != sampleText || e != api.OK {
		t.Error(text, e)
	}
	parse := func(s string, line int, want api.Errno) {
		t.Helper()
		x, gotLine, e := statement.Parse(s)
		if !statement.Equal(x, state{}) || gotLine != line || e != want {
			t.Errorf("Parse(%.60q): line %d, error %d, want %d, %d", s, gotLine, e, line, want)
		}
	}
	lines := strings.SplitAfter(sampleText, "\n")
	for n := range lines[:len(lines)-1] {
		parse(strings.Join(lines[:n], ""), n+1, api.ErrShort)
		parse(strings.Join(lines[:n], "")+strings.TrimSuffix(lines[n], "\n"), n+1, api.ErrShort)
		parse(strings.Join(lines[:n], "")+" "+lines[n], n+1, api.ErrSyntax)
		parse(strings.Join(lines[:n], "")+strings.TrimSuffix(lines[n], "\n")+" \n", n+1, api.ErrSyntax)
		parse(strings.Join(lines[:n], "")+"\n", n+1, api.ErrSyntax)
	}
	parse(strings.Repeat("x", 1<<24+1), 0, api.ErrLong)
	parse(sampleText+"\n", 14, api.ErrLong)
	parse(sampleText+"x", 14, api.ErrLong)
	for from, to := range map[string]string{
		"BANKA 2026": " 2026", "-11-16": "-11-31", "free CASH": "Free CASH", "free CASH opening": "free  opening", "opening 1500": "closing 1500", "1500": "01500", "605 P1": "+605 P1", "P1": "", "-500": "-0500", "1000": "1234567890123456789", "entry 3 605 P2 100 1100": "entry 3 605 P2 100", "closing 1101": "closing 1101 1", "end": "end end",
	} {
		s := strings.Replace(sampleText, from, to, 1)
		if _, _, e := statement.Parse(s); e != api.ErrSyntax {
			t.Error("replaced", from, "by", to, e)
		}
	}
	parse(strings.Replace(sampleText, "BANKA", "banka", 1), 0, api.ErrUnknown)
	parse(strings.Replace(sampleText, "P1 -500 1000", "P1 -500 1001", 1), 0, api.ErrUnbalanced)
	parse(strings.Replace(sampleText, "opening 1500", "opening -0", 1), 2, api.ErrSyntax)
	parse("statement BANKA 2026-11-16\naccount free CASH opening -999999999999999999\nclosing 0\nend\n", 0, api.ErrRange)
	parse("statement BANKA 2026-11-16\nclosing 0\nend\n", 2, api.ErrSyntax)
	parse("statement BANKA 2026-11-16\naccount free CASH opening 0\nend\n", 3, api.ErrSyntax)
}

// P54.3 P54.4
func TestBatch(t *testing.T) {
	h := record(t)
	b, e := statement.Close(h, []string{"BANKB", "BANKC", "BANKA"}, monday)
	if e != api.OK || b.Len() != 3 {
		t.Fatal(e)
	}
	var leaves [][]byte
	for _, m := range []string{"BANKA", "BANKB", "BANKC"} {
		s, _ := statement.Make(h, m, monday)
		text, _ := s.Format()
		leaves = append(leaves, []byte(text))
	}
	root, _ := merkle.Root(leaves)
	if b.Root() != root {
		t.Error("Root")
	}
	for n, m := range []string{"BANKA", "BANKB", "BANKC"} {
		text, index, proof, e := b.Statement(m)
		want, _ := merkle.Prove(leaves, n)
		if text != string(leaves[n]) || index != n || !slices.Equal(proof, want) || e != api.OK {
			t.Error("Statement", m, index, e)
		}
		s, e := statement.Verify(root, 3, n, text, proof)
		made, _ := statement.Make(h, m, monday)
		if !statement.Equal(s, made) || e != api.OK {
			t.Error("Verify", m, e)
		}
		if s, e := statement.Verify(root, 3, n, strings.Replace(text, m, "BANKX", 1), proof); !statement.Equal(s, state{}) || e != api.ErrProof {
			t.Error("altered text", e)
		}
	}
	if text, n, proof, e := b.Statement("BANKD"); text != "" || n != 0 || len(proof) != 0 || e != api.ErrNotFound {
		t.Error("Statement", e)
	}
	if s, e := statement.Verify(merkle.LeafHash([]byte("x")), 1, 0, "x", nil); !statement.Equal(s, state{}) || e != api.ErrShort {
		t.Error("not a statement", e)
	}
	if _, e := statement.Verify(root, 3, 5, "x", nil); e != api.ErrRange {
		t.Error("index", e)
	}
	many := make([]string, 1025)
	for n := range many {
		many[n] = "M" + strconv.Itoa(1000+n)
	}
	for n, x := range []struct {
		h   *history.History
		l   []string
		day int
		e   api.Errno
	}{{nil, []string{"x"}, -1, api.ErrArgument}, {h, nil, -1, api.ErrArgument}, {h, many, -1, api.ErrLimit}, {h, []string{"BANKA", "BANKA", "x"}, monday, api.ErrDuplicate}, {h, []string{"BANKA", "x", "x"}, monday, api.ErrUnknown}, {h, []string{"BANKA"}, -1, api.ErrDate}} {
		if b, e := statement.Close(x.h, x.l, x.day); b != nil || e != x.e {
			t.Error("Close", n, e)
		}
	}
	if b, e := statement.Close(h, many[1:], monday); b.Len() != 1024 || e != api.OK {
		t.Error("most", e)
	}
	var none *statement.Batch
	text, n, proof, e := none.Statement("BANKA")
	if none.Root() != (merkle.Hash{}) || none.Len() != 0 || text != "" || n != 0 || len(proof) != 0 || e != api.ErrArgument {
		t.Error("nil batch")
	}
}

// P54.5: closing balances are opening balances of the next day, and all balances of an asset add up to 0.
func TestContinuity(t *testing.T) {
	h := record(t)
	last := map[string]int64{}
	for day := monday - 4; day < monday+3; day++ {
		for _, m := range []string{"BANKA", "BANKB", "ISSUER"} {
			s, _ := statement.Make(h, m, day)
			for _, x := range s.Sections {
				k := m + x.Asset + strconv.Itoa(x.Kind)
				if last[k] != x.Opening {
					t.Error("opening of", k, day, x.Opening, last[k])
				}
				last[k] = x.Closing
				if balance, _ := h.BalanceAt(acc(m, x.Kind, x.Asset), h.SequenceAt(api.Clock{Day: day, Minute: 1439})); balance != x.Closing {
					t.Error("closing of", k, day)
				}
			}
		}
	}
}

// Example 1
func TestExample(t *testing.T) {
	s := state{"BANKA", monday, []section{{api.Free, api.Cash, 1500, []entry{{12, 605, "P1", -500, 1000}}, 1000}}}
	text, _ := s.Format()
	if text != "statement BANKA 2026-11-16\naccount free CASH opening 1500\nentry 12 605 P1 -500 1000\nclosing 1000\nend\n" {
		t.Error(text)
	}
}

// P54.1: what is just possible, and what is just too much.
func TestBounds(t *testing.T) {
	const highest = 900000000000000000
	// hill has a balance that rises to the top and falls again, by amounts that are possible.
	hill := func(top int64) state {
		sign := int64(1)
		if top < 0 {
			sign = -1
		}
		x := section{Asset: api.Cash}
		balance := int64(0)
		for balance != top {
			delta := sign * min(most, sign*(top-balance))
			balance += delta
			x.Entries = append(x.Entries, entry{1, 0, "U", delta, balance})
		}
		for balance != 0 {
			delta := -sign * min(most, sign*balance)
			balance += delta
			x.Entries = append(x.Entries, entry{1000000000000000, 1439, "D", delta, balance})
		}
		return state{"BANKA", 73048, []section{x}}
	}
	for n, x := range []struct {
		s state
		e api.Errno
	}{
		{hill(highest), api.OK}, {hill(-highest), api.OK}, {hill(highest + 1), api.ErrRange}, {hill(-highest - 1), api.ErrRange},
		{state{"BANKA", 0, make([]section, 4096)}, api.ErrUnknown},
		{state{"BANKA", 0, []section{{Asset: api.Cash, Opening: most, Closing: most}, {Kind: 1, Asset: api.Cash, Opening: -most, Closing: -most}}}, api.OK},
		{state{"BANKA", 0, []section{{Asset: api.Cash, Opening: most, Entries: []entry{{1, 0, "R", -most, 0}, {1, 0, "R", -most, -most}}, Closing: -most}}}, api.OK},
		{state{"BANKA", 0, []section{{Asset: api.Cash, Entries: []entry{{1, 0, "R", -most, -most}, {1, 0, "R", -1, -most - 1}}, Closing: -most - 1}}}, api.ErrRange},
	} {
		if e := x.s.Check(); e != x.e {
			t.Error("Check", n, e, "want", x.e)
		}
		text, e := x.s.Format()
		if s, _, parsed := statement.Parse(text); e == api.OK && (!statement.Equal(s, x.s) || parsed != api.OK) {
			t.Error("Parse", n, parsed)
		}
	}
	if _, line, e := statement.Parse(strings.Repeat("x", 1<<24)); line != 1 || e != api.ErrShort {
		t.Error("longest text", line, e)
	}
}

// P54.1
func TestEqual(t *testing.T) {
	if !statement.Equal(sample(), sample()) || !statement.Equal(state{}, state{Sections: []section{}}) {
		t.Error("equal statements")
	}
	for n, change := range []func(s *state){
		func(s *state) { s.Member = "BANKB" },
		func(s *state) { s.Day++ },
		func(s *state) { s.Sections = s.Sections[:2] },
		func(s *state) { s.Sections = append(s.Sections, section{}) },
		func(s *state) { s.Sections[0].Kind++ },
		func(s *state) { s.Sections[1].Asset = other },
		func(s *state) { s.Sections[1].Opening++ },
		func(s *state) { s.Sections[2].Closing++ },
		func(s *state) { s.Sections[0].Entries = s.Sections[0].Entries[:2] },
		func(s *state) { s.Sections[0].Entries[0].Sequence++ },
		func(s *state) { s.Sections[0].Entries[1].Minute++ },
		func(s *state) { s.Sections[0].Entries[2].Ref = "x" },
		func(s *state) { s.Sections[1].Entries[0].Delta++ },
		func(s *state) { s.Sections[1].Entries[0].Balance++ },
	} {
		s := sample()
		change(&s)
		if statement.Equal(s, sample()) || statement.Equal(sample(), s) {
			t.Error("change", n)
		}
	}
	// One field alone does not make statements equal.
	if statement.Equal(state{Member: "BANKA", Day: 1}, state{Member: "BANKB", Day: 1}) || statement.Equal(state{Sections: []section{{Kind: 1, Asset: isin}}}, state{Sections: []section{{Kind: 1, Asset: other, Opening: 1}}}) {
		t.Error("unlike statements")
	}
}
