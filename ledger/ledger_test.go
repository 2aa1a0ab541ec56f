package ledger_test

import (
	"math"
	"slices"
	"testing"

	"giro/api"
	"giro/ledger"
)

type key struct{ owner, asset string }

type entry = ledger.Entry[key]

func group(k key) string { return k.asset }

func book(t *testing.T) *ledger.Book[key] {
	t.Helper()
	b, e := ledger.New(group)
	if e != api.OK || b == nil {
		t.Fatal("New", e)
	}
	return b
}

func want(t *testing.T, what string, got, e api.Errno) {
	t.Helper()
	if got != e {
		t.Errorf("%s: error %d, want %d", what, got, e)
	}
}

func balance(t *testing.T, b *ledger.Book[key], k key, x int64) {
	t.Helper()
	if b.Balance(k) != x {
		t.Error("balance of", k, b.Balance(k), "want", x)
	}
}

var (
	a    = key{"A", "gold"}
	b    = key{"B", "gold"}
	c    = key{"C", "silver"}
	most = int64(api.MaxAmount)
)

// issued returns a book in which A and B have x and y and somebody else has minus their sum.
func issued(t *testing.T, x, y int64) *ledger.Book[key] {
	t.Helper()
	k := book(t)
	k.SetFloor(key{"issuer", "gold"}, ledger.NoFloor)
	want(t, "issue", k.Post([]entry{{a, x}, {b, y}, {key{"issuer", "gold"}, -x - y}}), api.OK)
	return k
}

// P13.1
func TestFloors(t *testing.T) {
	if k, e := ledger.New[key](nil); k != nil || e != api.ErrArgument {
		t.Error("New(nil)", e)
	}
	k := issued(t, 10, 0)
	for _, x := range []struct {
		floor int64
		e     api.Errno
	}{
		{math.MinInt64 + 1, api.ErrRange}, {-most - 1, api.ErrRange}, {most + 1, api.ErrRange}, {math.MaxInt64, api.ErrRange},
		{11, api.ErrFunds}, {most, api.ErrFunds}, {10, api.OK}, {-most, api.OK}, {ledger.NoFloor, api.OK}, {3, api.OK}, {0, api.OK},
	} {
		before := k.Floor(a)
		want(t, "SetFloor", k.SetFloor(a, x.floor), x.e)
		if x.e == api.OK {
			before = x.floor
		}
		if k.Floor(a) != before {
			t.Error("Floor", k.Floor(a), "want", before)
		}
	}
	if k.Floor(b) != 0 || k.Len() != 3 {
		t.Error("other floors")
	}
	k.SetFloor(c, -5)
	if k.Len() != 3 || k.Balance(c) != 0 || ledger.NoFloor != math.MinInt64 || ledger.MaxEntries != 4096 {
		t.Error("SetFloor posts")
	}
}

// P13.2
func TestPost(t *testing.T) {
	many := make([]entry, ledger.MaxEntries)
	for i := range many {
		many[i] = entry{[]key{a, b}[i%2], []int64{most, -most}[i/2%2]}
	}
	for _, x := range []struct {
		name string
		l    []entry
		e    api.Errno
	}{
		{"empty", nil, api.ErrArgument},
		{"too many", append(slices.Clone(many), entry{a, math.MaxInt64}), api.ErrLimit},
		{"most", many, api.OK},
		{"large delta", []entry{{a, most + 1}, {a, -most - 1}}, api.ErrOverflow},
		{"smallest delta", []entry{{a, math.MinInt64}}, api.ErrOverflow},
		{"large balance", []entry{{a, most - 9}, {c, -1}}, api.ErrOverflow},
		{"small balance", []entry{{c, -most}, {c, -1}}, api.ErrOverflow},
		{"unbalanced", []entry{{a, 5}}, api.ErrUnbalanced},
		{"two groups", []entry{{a, 5}, {c, -5}}, api.ErrUnbalanced},
		{"unbalanced and funds", []entry{{a, -50}, {b, 49}}, api.ErrUnbalanced},
		{"funds", []entry{{a, -11}, {b, 11}}, api.ErrFunds},
		{"all", []entry{{a, -10}, {b, 10}}, api.OK},
		{"in between", []entry{{a, -10}, {b, 20}, {a, -10}, {b, -5}, {a, 20}, {b, -15}}, api.OK},
		{"nothing", []entry{{c, 0}}, api.OK},
		{"self", []entry{{a, -most}, {a, most}}, api.OK},
	} {
		k := issued(t, 10, 20)
		before := k.Clone()
		want(t, x.name+" Check", k.Check(x.l), x.e)
		if !k.Equal(before) {
			t.Error(x.name, "Check changes the book")
		}
		want(t, x.name+" Post", k.Post(x.l), x.e)
		if x.e != api.OK {
			if !k.Equal(before) {
				t.Error(x.name, "Post changes the book")
			}
			continue
		}
		sums := map[key]int64{}
		for _, y := range x.l {
			sums[y.Key] += y.Delta
		}
		for y, sum := range sums {
			balance(t, k, y, before.Balance(y)+sum)
		}
		if k.Sequence() != 2 {
			t.Error(x.name, "Sequence", k.Sequence())
		}
	}
}

// P13.2: only a key with a negative net delta can fall below its floor.
func TestBelowFloor(t *testing.T) {
	k := book(t)
	k.SetFloor(a, -10)
	want(t, "down", k.Post([]entry{{a, -10}, {b, 10}}), api.OK)
	k.SetFloor(b, 10)
	want(t, "at the floor", k.Post([]entry{{b, -1}, {a, 1}}), api.ErrFunds)
	want(t, "unchanged", k.Post([]entry{{b, -1}, {b, 1}}), api.OK)
	k.SetFloor(c, -most)
	want(t, "lowest", k.Post([]entry{{c, -most}, {key{"D", "silver"}, most}}), api.OK)
	k.SetFloor(c, ledger.NoFloor)
	want(t, "below every balance", k.Post([]entry{{c, -1}, {key{"E", "silver"}, 1}}), api.ErrOverflow)
}

// P13.3
func TestListing(t *testing.T) {
	k := book(t)
	if k.Len() != 0 || k.Sequence() != 0 || len(k.Groups()) != 0 {
		t.Error("empty book")
	}
	k.SetFloor(b, -9)
	k.Post([]entry{{c, 0}, {b, -5}, {a, 5}, {b, 1}, {a, -1}})
	k.Post([]entry{{key{"Z", ""}, 0}, {a, -2}, {b, 2}})
	k.Post([]entry{{key{"Y", "x"}, 5}})
	var keys []key
	var balances []int64
	for x, y := range k.All() {
		keys = append(keys, x)
		balances = append(balances, y)
	}
	if !slices.Equal(keys, []key{c, b, a, {"Z", ""}}) || !slices.Equal(balances, []int64{0, -2, 2, 0}) || k.Len() != 4 {
		t.Error(keys, balances)
	}
	n := 0
	for range k.All() {
		n++
		break
	}
	if n != 1 {
		t.Error("iteration goes on")
	}
	if !slices.Equal(k.Groups(), []string{"", "gold", "silver"}) || k.Sequence() != 2 {
		t.Error(k.Groups(), k.Sequence())
	}
	for _, g := range []string{"gold", "silver", "", "other"} {
		if k.Total(g) != 0 {
			t.Error("Total", g, k.Total(g))
		}
	}
}

// P13.4
func TestBundle(t *testing.T) {
	k := issued(t, 10, 20)
	u := k.Begin()
	want(t, "no entries", u.Add(), api.ErrArgument)
	want(t, "large", u.Add(entry{a, 1}, entry{a, most + 1}), api.ErrOverflow)
	want(t, "small", u.Add(entry{a, math.MinInt64}), api.ErrOverflow)
	if u.Savepoint() != 0 || len(u.Entries()) != 0 {
		t.Error("a refused entry is kept")
	}
	want(t, "Add", u.Add(entry{a, -4}, entry{b, 1}), api.OK)
	want(t, "Add", u.Add(entry{b, 3}), api.OK)
	if u.Savepoint() != 3 || u.Balance(a) != 6 || u.Balance(b) != 24 || u.Balance(c) != 0 || k.Balance(a) != 10 {
		t.Error("balances", u.Balance(a), u.Balance(b))
	}
	u.Entries()[0].Delta = 99
	if !slices.Equal(u.Entries(), []entry{{a, -4}, {b, 1}, {b, 3}}) {
		t.Error(u.Entries())
	}
	want(t, "RollbackTo", u.RollbackTo(4), api.ErrRange)
	want(t, "RollbackTo", u.RollbackTo(-1), api.ErrRange)
	want(t, "RollbackTo", u.RollbackTo(2), api.OK)
	if !slices.Equal(u.Entries(), []entry{{a, -4}, {b, 1}}) || u.Balance(b) != 21 {
		t.Error(u.Entries())
	}
	want(t, "Add", u.Add(entry{b, 2}), api.OK)
	want(t, "limit", u.Add(make([]entry, ledger.MaxEntries-2)...), api.ErrLimit)
	want(t, "limit before overflow", u.Add(append(make([]entry, ledger.MaxEntries-3), entry{a, most + 1})...), api.ErrLimit)
	want(t, "most", u.Add(make([]entry, ledger.MaxEntries-3)...), api.OK)
	want(t, "full", u.Add(entry{}), api.ErrLimit)
}

// P13.5
func TestCommit(t *testing.T) {
	k := issued(t, 10, 20)
	u := k.Begin()
	u.Add(entry{a, -11}, entry{b, 11})
	want(t, "Commit", u.Commit(), api.ErrFunds)
	if u.Savepoint() != 2 || k.Sequence() != 1 {
		t.Error("a bundle that is refused changes")
	}
	want(t, "other", k.Post([]entry{{b, -1}, {a, 1}}), api.OK)
	want(t, "Commit", u.Commit(), api.OK)
	balance(t, k, a, 0)
	balance(t, k, b, 30)
	closed := func(u *ledger.Bundle[key]) {
		t.Helper()
		want(t, "Commit", u.Commit(), api.ErrClosed)
		want(t, "Add", u.Add(), api.ErrClosed)
		want(t, "RollbackTo", u.RollbackTo(-1), api.ErrClosed)
		u.Rollback()
		if u.Savepoint() != 0 || len(u.Entries()) != 0 || u.Balance(b) != k.Balance(b) {
			t.Error("closed bundle has entries")
		}
	}
	closed(u)
	v := k.Begin()
	want(t, "empty", v.Commit(), api.OK)
	closed(v)
	if k.Sequence() != 3 {
		t.Error("an empty bundle is posted", k.Sequence())
	}
	w := k.Begin()
	w.Add(entry{b, -5}, entry{a, 5})
	w.Rollback()
	closed(w)
	balance(t, k, b, 30)
}

// P13.6
func TestCloneEqual(t *testing.T) {
	k := issued(t, 10, 20)
	u := k.Begin()
	u.Add(entry{a, -1}, entry{b, 1})
	for name, change := range map[string]func(k *ledger.Book[key]){
		"balance":  func(k *ledger.Book[key]) { k.Post([]entry{{a, -1}, {b, 1}}) },
		"sequence": func(k *ledger.Book[key]) { k.Post([]entry{{a, 0}}) },
		"key":      func(k *ledger.Book[key]) { k.Post([]entry{{c, 0}}) },
		"floor":    func(k *ledger.Book[key]) { k.SetFloor(a, 1) },
		"no floor": func(k *ledger.Book[key]) { k.SetFloor(c, ledger.NoFloor) },
	} {
		d := k.Clone()
		if !d.Equal(k) || !k.Equal(issued(t, 10, 20)) {
			t.Fatal("clone is not equal")
		}
		change(d)
		if d.Equal(k) || k.Equal(d) || !k.Equal(issued(t, 10, 20)) {
			t.Error(name)
		}
	}
	d := k.Clone()
	d.SetFloor(a, 5)
	d.SetFloor(a, 0)
	if !d.Equal(k) {
		t.Error("a floor of 0 differs from none")
	}
	u.Commit()
	balance(t, k, a, 9)
	balance(t, d, a, 10)
	x, y := book(t), book(t)
	x.Post([]entry{{a, 0}, {b, 0}})
	y.Post([]entry{{b, 0}, {a, 0}})
	if x.Equal(y) {
		t.Error("another order is equal")
	}
}

// P13.6
func TestNil(t *testing.T) {
	var k *ledger.Book[key]
	var u *ledger.Bundle[key]
	for _, e := range []api.Errno{k.SetFloor(a, 1), k.Check(nil), k.Post(nil), u.Add(), u.RollbackTo(0), u.Commit()} {
		want(t, "nil", e, api.ErrArgument)
	}
	u.Rollback()
	for range k.All() {
		t.Error("nil book has keys")
	}
	if k.Floor(a) != 0 || k.Balance(a) != 0 || k.Total("gold") != 0 || len(k.Groups()) != 0 || k.Len() != 0 || k.Sequence() != 0 || k.Clone() != nil || k.Begin() != nil {
		t.Error("nil book")
	}
	if u.Balance(a) != 0 || u.Savepoint() != 0 || len(u.Entries()) != 0 {
		t.Error("nil bundle")
	}
	if !k.Equal(nil) || k.Equal(book(t)) || book(t).Equal(k) {
		t.Error("Equal of nil")
	}
}

// P13.7
func TestOrderOfEntries(t *testing.T) {
	l := []entry{{a, -7}, {b, 9}, {a, 3}, {b, -5}, {c, 0}}
	x, y := issued(t, 4, 0), issued(t, 4, 0)
	r := slices.Clone(l)
	slices.Reverse(r)
	want(t, "forward", x.Post(l), api.OK)
	want(t, "backward", y.Post(r), api.OK)
	for _, k := range []key{a, b, c} {
		balance(t, y, k, x.Balance(k))
	}
	u := issued(t, 4, 0)
	want(t, "added up", u.Post([]entry{{a, -4}, {b, 4}}), api.OK)
	balance(t, u, b, x.Balance(b))
}

// Example 1
func TestExample(t *testing.T) {
	k := book(t)
	want(t, "funds", k.Post([]entry{{a, -5}, {b, 5}}), api.ErrFunds)
	k.SetFloor(a, -10)
	want(t, "floor", k.Post([]entry{{a, -5}, {b, 5}}), api.OK)
	balance(t, k, a, -5)
	balance(t, k, b, 5)
	want(t, "unbalanced", k.Post([]entry{{a, 1}, {c, -1}}), api.ErrUnbalanced)
}
