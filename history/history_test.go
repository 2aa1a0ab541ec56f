package history_test

import (
	"math"
	"slices"
	"strings"
	"testing"

	"giro/api"
	"giro/history"
)

var (
	a    = api.Account{Owner: "BANKA", Kind: api.Free, Asset: api.Cash}
	b    = api.Account{Owner: "BANKB", Kind: api.Free, Asset: api.Cash}
	s    = api.Account{Owner: "BANKA", Kind: api.Free, Asset: "XS0000000009"}
	most = int64(api.MaxAmount)
)

func move(ref string, from, to api.Account, x int64) history.Part {
	return history.Part{Ref: ref, Postings: []api.Posting{{Account: from, Delta: -x}, {Account: to, Delta: x}}}
}

func bundle(sequence, day, minute int, parts ...history.Part) history.Bundle {
	return history.Bundle{Sequence: sequence, Clock: api.Clock{Day: day, Minute: minute}, Parts: parts}
}

func add(t *testing.T, h *history.History, x history.Bundle, e api.Errno) {
	t.Helper()
	before := h.Clone()
	if got := h.Append(x); got != e {
		t.Errorf("Append of bundle %d: error %d, want %d", x.Sequence, got, e)
	}
	if e != api.OK && !h.Equal(before) {
		t.Error("a refused bundle changes the history")
	}
}

// sample has four bundles on two days.
func sample(t *testing.T) *history.History {
	t.Helper()
	h := history.New()
	add(t, h, bundle(1, 5, 10, move("X", a, b, 100), move("Y", s, s, 5)), api.OK)
	add(t, h, bundle(2, 5, 10, move("Y", b, a, 30)), api.OK)
	add(t, h, bundle(3, 5, 700, move("Z", a, a, 7), move("X", b, a, 1)), api.OK)
	add(t, h, bundle(4, 7, 0, move("Z", b, a, 2), move("Z", b, a, 2)), api.OK)
	return h
}

func balance(t *testing.T, h *history.History, x api.Account, sequence int, want int64) {
	t.Helper()
	if got, e := h.BalanceAt(x, sequence); got != want || e != api.OK {
		t.Error("BalanceAt", x, sequence, got, e, "want", want)
	}
}

// P14.1
func TestAppendErrors(t *testing.T) {
	h := sample(t)
	part := move("X", a, b, 1)
	long := strings.Repeat("r", history.MaxRef)
	unbalanced := history.Part{Ref: "U", Postings: []api.Posting{{Account: a, Delta: 1}, {Account: s, Delta: -1}}}
	wide := history.Part{Ref: "W", Postings: make([]api.Posting, history.MaxPostings)}
	add(t, h, bundle(6, -1, 0), api.ErrSequence)
	add(t, h, bundle(4, 7, 0, part), api.ErrSequence)
	add(t, h, bundle(math.MinInt, 7, 0, part), api.ErrSequence)
	add(t, h, bundle(5, -1, 0), api.ErrRange)
	add(t, h, bundle(5, 73049, 0), api.ErrRange)
	add(t, h, bundle(5, 7, -1), api.ErrRange)
	add(t, h, bundle(5, 7, 1440), api.ErrRange)
	add(t, h, bundle(5, 6, 1439), api.ErrStale)
	add(t, h, bundle(5, 7, 0), api.ErrArgument)
	add(t, h, bundle(5, 7, 0, make([]history.Part, history.MaxParts+1)...), api.ErrLimit)
	add(t, h, bundle(5, 7, 0, wide, part), api.ErrLimit)
	add(t, h, bundle(5, 7, 0, make([]history.Part, history.MaxParts)...), api.ErrArgument)
	add(t, h, bundle(5, 7, 0, part, history.Part{Ref: long + "r"}), api.ErrLong)
	add(t, h, bundle(5, 7, 0, part, history.Part{Ref: long}), api.ErrArgument)
	add(t, h, bundle(5, 7, 0, move("", a, b, most+1)), api.ErrRange)
	add(t, h, bundle(5, 7, 0, move("", a, b, math.MinInt64)), api.ErrRange)
	add(t, h, bundle(5, 7, 0, unbalanced, history.Part{Ref: long + "r"}), api.ErrUnbalanced)
	add(t, h, bundle(5, 7, 0, history.Part{Ref: "1", Postings: []api.Posting{{Account: a, Delta: 1}}}, history.Part{Ref: "2", Postings: []api.Posting{{Account: b, Delta: -1}}}), api.ErrUnbalanced)
	add(t, h, bundle(5, 7, 0, move("", a, b, most)), api.ErrOverflow)
	add(t, h, bundle(5, 7, 0, move("", b, a, most), unbalanced), api.ErrUnbalanced)
	var none *history.History
	if e := none.Append(bundle(1, 0, 0, part)); e != api.ErrArgument {
		t.Error("nil", e)
	}
	add(t, h, bundle(5, 7, 0, move(long, a, b, 1)), api.OK)
	add(t, h, bundle(6, 73048, 1439, wide), api.OK)
}

// P14.1: a balance is looked at after the bundle, and sums that do not fit into 64 bits are exact.
func TestBounds(t *testing.T) {
	h := history.New()
	add(t, h, bundle(1, 0, 0, move("1", a, b, most)), api.OK)
	add(t, h, bundle(2, 0, 0, move("1", a, b, 1)), api.ErrOverflow)
	add(t, h, bundle(2, 0, 0, move("1", a, b, most), move("2", b, a, most)), api.OK)
	var l []api.Posting
	for range 18432 {
		l = append(l, api.Posting{Account: a, Delta: most})
	}
	// 18432 * 10^15 is 2^64 minus something, so that a sum in 64 bits would be wrong by 2^64.
	for range 18432 {
		l = append(l, api.Posting{Account: b, Delta: -most})
	}
	add(t, h, bundle(3, 0, 0, history.Part{Postings: l}), api.ErrOverflow)
	var u []api.Posting
	for range 18446 {
		u = append(u, api.Posting{Account: a, Delta: most})
	}
	// The sum is 2^64 exactly.
	u = append(u, api.Posting{Account: a, Delta: 744073709551616})
	add(t, h, bundle(3, 0, 0, history.Part{Postings: u}), api.ErrUnbalanced)
	for i := range u {
		u = append(u, api.Posting{Account: b, Delta: -u[i].Delta})
	}
	add(t, h, bundle(3, 0, 0, history.Part{Postings: u}), api.ErrOverflow)
	for i := range u {
		u[i].Account = a
	}
	add(t, h, bundle(3, 0, 0, history.Part{Postings: u}), api.OK)
	balance(t, h, a, 3, -most)
	balance(t, h, b, 3, most)
	if got := h.Turnover(a, 0); got != (history.Turnover{Debit: 1000000000000000000, Credit: 1000000000000000000}) {
		t.Error("Turnover", got)
	}
}

// P14.2
func TestQueries(t *testing.T) {
	h := sample(t)
	for sequence, want := range []int64{0, 100, 70, 69, 65} {
		balance(t, h, b, sequence, want)
		balance(t, h, a, sequence, -want)
		balance(t, h, s, sequence, 0)
	}
	balance(t, h, api.Account{Owner: "NONE"}, 4, 0)
	for _, sequence := range []int{-1, 5, math.MaxInt} {
		if x, e := h.BalanceAt(b, sequence); x != 0 || e != api.ErrRange {
			t.Error("BalanceAt", sequence, x, e)
		}
		if x, ok := h.At(sequence); ok || x.Sequence != 0 || x.Parts != nil {
			t.Error("At", sequence)
		}
	}
	if _, ok := h.At(0); ok {
		t.Error("At(0)")
	}
	x, ok := h.At(2)
	if !ok || x.Sequence != 2 || x.Clock != (api.Clock{Day: 5, Minute: 10}) || len(x.Parts) != 1 || x.Parts[0].Ref != "Y" || x.Parts[0].Postings[1].Delta != 30 {
		t.Error("At(2)", x)
	}
	for _, y := range []struct{ day, minute, want int }{{5, 9, 0}, {4, 1439, 0}, {5, 10, 2}, {5, 11, 2}, {5, 699, 2}, {5, 700, 3}, {6, 0, 3}, {7, 0, 4}, {math.MaxInt, math.MinInt, 4}, {math.MinInt, 0, 0}} {
		if got := h.SequenceAt(api.Clock{Day: y.day, Minute: y.minute}); got != y.want {
			t.Error("SequenceAt", y, got)
		}
	}
	if h.Len() != 4 || history.New().SequenceAt(api.Clock{}) != 0 {
		t.Error("Len")
	}
}

func sequences(l func(func(history.Bundle) bool)) []int {
	var n []int
	for x := range l {
		n = append(n, x.Sequence)
	}
	return n
}

// P14.3
func TestIterators(t *testing.T) {
	h := sample(t)
	for name, x := range map[string]struct{ got, want []int }{
		"a": {sequences(h.ByAccount(a)), []int{1, 2, 3, 4}}, "s": {sequences(h.ByAccount(s)), []int{1}}, "none": {sequences(h.ByAccount(api.Account{})), nil},
		"day 5": {sequences(h.ByDay(5)), []int{1, 2, 3}}, "day 6": {sequences(h.ByDay(6)), nil}, "day 7": {sequences(h.ByDay(7)), []int{4}},
		"X": {sequences(h.ByRef("X")), []int{1, 3}}, "Y": {sequences(h.ByRef("Y")), []int{1, 2}}, "Z": {sequences(h.ByRef("Z")), []int{3, 4}}, "-": {sequences(h.ByRef("")), nil},
	} {
		if !slices.Equal(x.got, x.want) {
			t.Error(name, x.got, x.want)
		}
	}
	if !slices.Equal(h.Accounts(), []api.Account{a, s, b}) {
		t.Error(h.Accounts())
	}
	n := 0
	later := h.ByDay(5)
	for range later {
		n++
		break
	}
	if n != 1 {
		t.Error("iteration goes on")
	}
	for range h.ByDay(7) {
		n = h.Len()
		if n < 6 {
			add(t, h, bundle(n+1, 7, 0, move("N", a, b, 1)), api.OK)
		}
	}
	if n != 4 || !slices.Equal(sequences(h.ByDay(7)), []int{4, 5}) {
		t.Error("the iteration covers bundles that were added later")
	}
}

// P14.3
func TestCompare(t *testing.T) {
	l := []api.Account{{Owner: "", Kind: 9, Asset: "Z"}, {Owner: "A", Kind: 9, Asset: "A"}, {Owner: "A", Kind: -1, Asset: "B"}, {Owner: "A", Kind: 0, Asset: "B"}, {Owner: "AA", Kind: 0, Asset: ""}, {Owner: "B", Kind: 0, Asset: "A"}}
	for i := range l {
		for j := range l {
			want := 0
			if i < j {
				want = -1
			} else if i > j {
				want = 1
			}
			if history.Compare(l[i], l[j]) != want {
				t.Error("Compare", l[i], l[j])
			}
		}
	}
}

// P14.4 P14.6
func TestTurnover(t *testing.T) {
	h := sample(t)
	for _, x := range []struct {
		account api.Account
		day     int
		want    history.Turnover
	}{
		{b, 5, history.Turnover{Debit: 31, Credit: 100}}, {a, 5, history.Turnover{Debit: 107, Credit: 38}}, {b, 6, history.Turnover{}},
		{b, 7, history.Turnover{Debit: 4}}, {s, 5, history.Turnover{Debit: 5, Credit: 5}}, {a, -1, history.Turnover{}},
	} {
		if got := h.Turnover(x.account, x.day); got != x.want {
			t.Error("Turnover", x.account, x.day, got)
		}
	}
}

// P14.5 P14.6
func TestCloneEqual(t *testing.T) {
	h := sample(t)
	c := h.Clone()
	if !c.Equal(h) || !h.Equal(sample(t)) {
		t.Error("clone is not equal")
	}
	add(t, c, bundle(5, 7, 0, move("C", a, b, 1)), api.OK)
	add(t, h, bundle(5, 7, 0, move("H", a, b, 2)), api.OK)
	if c.Equal(h) {
		t.Error("different histories are equal")
	}
	d := h.Clone()
	add(t, h, bundle(6, 7, 0, move("H", a, b, 4)), api.OK)
	add(t, d, bundle(6, 7, 0, move("D", a, b, 5)), api.OK)
	for _, x := range []struct {
		h    *history.History
		ref  string
		last int64
	}{{c, "C", 66}, {h, "H", 71}, {d, "D", 72}} {
		last, _ := x.h.At(x.h.Len())
		if last.Parts[0].Ref != x.ref {
			t.Error("histories share memory", last)
		}
		balance(t, x.h, b, x.h.Len(), x.last)
	}
	base := bundle(1, 5, 10, move("X", a, b, 1))
	make := func(x history.Bundle) *history.History { h := history.New(); h.Append(x); return h }
	for _, x := range []history.Bundle{bundle(1, 5, 11, move("X", a, b, 1)), bundle(1, 6, 10, move("X", a, b, 1)), bundle(1, 5, 10, move("Y", a, b, 1)),
		bundle(1, 5, 10, move("X", a, b, 2)), bundle(1, 5, 10, move("X", b, a, -1)), bundle(1, 5, 10, move("X", a, b, 1), move("X", a, b, 1))} {
		if make(x).Equal(make(base)) {
			t.Error("equal:", x)
		}
	}
	if !make(base).Equal(make(base)) || history.New().Equal(make(base)) {
		t.Error("Equal")
	}
}

// P14.6
func TestMemory(t *testing.T) {
	h := history.New()
	x := bundle(1, 5, 10, move("X", a, b, 1))
	add(t, h, x, api.OK)
	x.Parts[0].Postings[0].Delta = 9
	x.Parts[0].Ref = "?"
	y, _ := h.At(1)
	y.Parts[0].Postings[0].Delta = 9
	for z := range h.ByDay(5) {
		z.Parts[0].Ref = "?"
		z.Parts[0].Postings[0].Delta = 8
	}
	h.Accounts()[0].Owner = "?"
	want := history.New()
	add(t, want, bundle(1, 5, 10, move("X", a, b, 1)), api.OK)
	if !h.Equal(want) || h.Accounts()[0] != a {
		t.Error("memory is shared")
	}
}

// P14.5
func TestNil(t *testing.T) {
	var h *history.History
	if _, ok := h.At(1); ok {
		t.Error("At")
	}
	if x, e := h.BalanceAt(a, 0); x != 0 || e != api.ErrArgument {
		t.Error("BalanceAt", x, e)
	}
	for range h.ByDay(5) {
		t.Error("ByDay")
	}
	for range h.ByRef("X") {
		t.Error("ByRef")
	}
	for range h.ByAccount(a) {
		t.Error("ByAccount")
	}
	if h.Len() != 0 || h.SequenceAt(api.Clock{Day: 9}) != 0 || len(h.Accounts()) != 0 || h.Turnover(a, 5) != (history.Turnover{}) || h.Clone() != nil {
		t.Error("nil history")
	}
	if !h.Equal(nil) || h.Equal(history.New()) || history.New().Equal(h) {
		t.Error("Equal of nil")
	}
}

// Example 1
func TestExample(t *testing.T) {
	h := history.New()
	add(t, h, bundle(1, 5, 0, move("X", a, b, 100)), api.OK)
	add(t, h, bundle(2, 6, 10, move("Y", b, a, 30)), api.OK)
	balance(t, h, b, 1, 100)
	balance(t, h, b, 2, 70)
	if h.SequenceAt(api.Clock{Day: 6}) != 1 || h.Turnover(b, 6) != (history.Turnover{Debit: 30}) {
		t.Error("example")
	}
}
