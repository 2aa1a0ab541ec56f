package resource_test

import (
	"math"
	"slices"
	"testing"

	"giro/api"
	"giro/resource"
)

type (
	item    = resource.Item
	payment = resource.Payment
	problem = resource.Problem
	res     = resource.Resource
	room    = resource.Room
)

const most = int64(api.MaxAmount)

func cash(owner string) api.Account { return api.Account{Owner: owner, Asset: api.Cash} }

func bal(owner string) res { return res{Kind: resource.Balance, Account: cash(owner)} }

func bil(from, to string) res { return res{Kind: resource.Bilateral, From: from, To: to} }

func mul(from string) res { return res{Kind: resource.Multilateral, From: from} }

// pay is the item of a payment.
func pay(id, priority int, from, to string, x int64, after ...int) item {
	return item{Id: id, Priority: priority, Seq: id, Postings: move(from, to, x), Payments: []payment{{from, to, x}}, After: after}
}

func move(from, to string, x int64) []api.Posting {
	return []api.Posting{{Account: cash(from), Delta: -x}, {Account: cash(to), Delta: x}}
}

// P28.1
func TestCompare(t *testing.T) {
	acc := func(owner string, kind int, asset string) res {
		return res{Account: api.Account{Owner: owner, Kind: kind, Asset: asset}}
	}
	l := []res{{Kind: -1, From: "Z"}, acc("", 0, ""), {From: "A"}, {From: "A", To: "A"}, acc("A", -1, "Z"), acc("A", 0, "A"), acc("A", 0, "B"), acc("A", 1, ""), acc("B", 0, ""), bil("A", "B"), bil("A", "C"), bil("B", "A"), mul("A"), {Kind: 9}}
	for i, a := range l {
		for j, b := range l {
			want := 0
			if i < j {
				want = -1
			} else if i > j {
				want = 1
			}
			if resource.Compare(a, b) != want {
				t.Error("Compare", a, b)
			}
		}
	}
	for _, x := range []struct {
		a, b item
		want bool
	}{{item{Seq: 1}, item{Seq: 2}, true}, {item{Seq: 2}, item{Seq: 1}, false}, {item{Seq: 1}, item{Seq: 1}, false}, {item{Seq: 5, Priority: 1}, item{Seq: 1}, true}, {item{Seq: 1}, item{Seq: 5, Priority: 1}, false}} {
		if resource.Before(x.a, x.b) != x.want {
			t.Error("Before", x)
		}
	}
}

// P28.2
func TestItemCheck(t *testing.T) {
	many := make([]int, 257)
	for i := range many {
		many[i] = i + 10
	}
	owner := func(k api.Account) item { return item{Postings: []api.Posting{{Account: k}}} }
	half := most/2 + 1
	for n, x := range []struct {
		i item
		e api.Errno
	}{
		{item{}, api.OK}, {item{Id: 1000000000, Seq: 1000000000, Priority: 2}, api.OK}, {pay(1, 0, "A", "B", most), api.OK}, {pay(1, 0, "A", "B", 0, 0, 2, 1000000000), api.OK},
		{item{Id: -1}, api.ErrRange}, {item{Id: 1000000001}, api.ErrRange}, {item{Seq: -1}, api.ErrRange}, {item{Seq: 1000000001}, api.ErrRange}, {item{Priority: 3}, api.ErrRange}, {item{Priority: -1, After: many}, api.ErrRange},
		{item{Postings: make([]api.Posting, 257)}, api.ErrLimit}, {item{Payments: make([]payment, 257)}, api.ErrLimit}, {item{After: many}, api.ErrLimit}, {item{After: many[1:]}, api.OK}, {item{Postings: make([]api.Posting, 256)}, api.ErrUnknown},
		{owner(api.Account{Kind: 9, Asset: "X"}), api.ErrUnknown}, {owner(api.Account{Owner: "A"}), api.ErrUnknown}, {owner(api.Account{Owner: "A", Kind: 5, Asset: "X"}), api.ErrKind}, {owner(api.Account{Owner: "A", Kind: -1, Asset: "X"}), api.ErrKind},
		{item{Postings: []api.Posting{{Account: cash("A"), Delta: most + 1}, {}}}, api.ErrOverflow}, {item{Postings: []api.Posting{{Account: cash("A"), Delta: math.MinInt64}}, Payments: []payment{{}}}, api.ErrOverflow},
		{item{Postings: []api.Posting{{Account: cash("A"), Delta: 1}}, Payments: []payment{{"", "B", -1}}}, api.ErrUnknown}, {item{Payments: []payment{{"A", "", 1}}}, api.ErrUnknown}, {item{Payments: []payment{{"A", "A", -1}}}, api.ErrDuplicate},
		{item{Payments: []payment{{"A", "B", -1}, {}}, After: []int{-1}}, api.ErrRange}, {item{Payments: []payment{{"A", "B", most + 1}}}, api.ErrRange},
		{item{After: []int{-1, 0}}, api.ErrRange}, {item{After: []int{1000000001}}, api.ErrRange}, {item{Id: 7, After: []int{7, -1}}, api.ErrDuplicate}, {item{After: []int{5, 6, 5}, Postings: []api.Posting{{Account: cash("A"), Delta: 1}}}, api.ErrDuplicate},
		{item{Postings: []api.Posting{{Account: cash("A"), Delta: 1}}}, api.ErrUnbalanced}, {item{Postings: []api.Posting{{Account: cash("A"), Delta: 1}, {Account: api.Account{Owner: "A", Asset: "X"}, Delta: -1}}}, api.ErrUnbalanced},
		{item{Postings: []api.Posting{{Account: cash("A"), Delta: half}, {Account: cash("A"), Delta: half}}}, api.ErrUnbalanced},
		{item{Postings: append(move("A", "B", half), move("A", "B", half)...)}, api.ErrOverflow}, {item{Postings: append(move("A", "B", half), move("B", "A", half)...)}, api.OK},
		{item{Payments: []payment{{"A", "B", half}, {"A", "B", half}}}, api.ErrOverflow}, {item{Payments: []payment{{"A", "B", half}, {"A", "C", half}}}, api.ErrOverflow}, {item{Payments: []payment{{"B", "A", half}, {"C", "A", half}}}, api.ErrOverflow}, {item{Payments: []payment{{"A", "B", half}, {"C", "A", half}}}, api.OK},
	} {
		if e := x.i.Check(); e != x.e {
			t.Error("item", n, e, "want", x.e)
		}
		l, e := x.i.Deltas()
		if e != x.e || e != api.OK && len(l) != 0 {
			t.Error("Deltas of item", n, e)
		}
	}
	bad := pay(1, 9, "A", "B", 5)
	if bad.Delta(bal("A")) != 0 {
		t.Error("delta of an invalid item")
	}
}

// P28.3
func TestDeltas(t *testing.T) {
	i := item{Postings: slices.Concat(move("B", "A", 5), move("A", "C", 5), move("C", "D", 2)), Payments: []payment{{"A", "B", 5}, {"B", "A", 3}, {"B", "C", 2}, {"X", "Y", 0}}}
	want := []resource.Delta{{Resource: bal("B"), Amount: -5}, {Resource: bal("C"), Amount: 3}, {Resource: bal("D"), Amount: 2}, {Resource: bil("A", "B"), Amount: -2}, {Resource: bil("B", "A"), Amount: 2}, {Resource: bil("B", "C"), Amount: -2}, {Resource: bil("C", "B"), Amount: 2}, {Resource: mul("A"), Amount: -2}, {Resource: mul("C"), Amount: 2}}
	l, e := i.Deltas()
	if !slices.Equal(l, want) || e != api.OK {
		t.Error(l, e)
	}
	for _, d := range want {
		if i.Delta(d.Resource) != d.Amount {
			t.Error("Delta", d, i.Delta(d.Resource))
		}
	}
	for _, r := range []res{bal("A"), bal("Z"), mul("B"), {Kind: 7}, {Kind: resource.Bilateral, From: "A", To: "B", Account: cash("A")}, {Kind: resource.Balance, Account: cash("B"), From: "x"}} {
		if i.Delta(r) != 0 {
			t.Error("Delta", r, i.Delta(r))
		}
	}
}

// P28.4 P28.8
func TestMerge(t *testing.T) {
	a, b, c := pay(4, 0, "A", "B", 5, 9, 7), pay(9, 1, "B", "A", 5, 3), pay(2, 0, "B", "C", 1, 7, 4)
	got, e := resource.Merge([]item{a, b, c})
	want := item{Id: 9, Priority: 1, Seq: 9, Postings: []api.Posting{{Account: cash("B"), Delta: -1}, {Account: cash("C"), Delta: 1}},
		Payments: []payment{{"B", "A", 5}, {"B", "C", 1}, {"A", "B", 5}}, After: []int{3, 7}}
	if e != api.OK || !resource.Equal(problem{Items: []item{got}}, problem{Items: []item{want}}) {
		t.Error(got, e)
	}
	for _, r := range []res{bal("A"), bal("B"), bal("C"), bil("A", "B"), bil("B", "C"), mul("A"), mul("B"), mul("C")} {
		if got.Delta(r) != a.Delta(r)+b.Delta(r)+c.Delta(r) {
			t.Error("delta", r)
		}
	}
	sorted, _ := resource.Merge([]item{{Postings: []api.Posting{{Account: api.Account{Owner: "B", Kind: 0, Asset: "X"}, Delta: 1}, {Account: api.Account{Owner: "A", Kind: 2, Asset: "X"}, Delta: 1}, {Account: api.Account{Owner: "A", Kind: 1, Asset: "Y"}, Delta: 1}, {Account: api.Account{Owner: "A", Kind: 1, Asset: "X"}, Delta: -2}, {Account: api.Account{Owner: "C", Asset: "Y"}, Delta: -1}}}})
	for n := range sorted.Postings[1:] {
		if resource.Compare(res{Account: sorted.Postings[n].Account}, res{Account: sorted.Postings[n+1].Account}) >= 0 {
			t.Error("order of postings", sorted.Postings)
		}
	}
	wide := func(id int) item {
		i := item{Id: id, Seq: id}
		for n := range 200 {
			i.After = append(i.After, 1000*id+n)
		}
		return i
	}
	twin := pay(7, 0, "A", "B", 1)
	twin.Seq = 4
	for n, x := range []struct {
		l []item
		e api.Errno
	}{
		{nil, api.ErrArgument}, {[]item{a, {Id: -1}, {Id: 5, Priority: 9}}, api.ErrRange}, {[]item{a, a, {Payments: []payment{{}}}}, api.ErrUnknown}, {[]item{a, a}, api.ErrDuplicate}, {[]item{a, twin}, api.ErrDuplicate},
		{[]item{wide(1), wide(2)}, api.ErrLimit}, {[]item{pay(1, 0, "A", "B", most), pay(2, 0, "A", "B", 1)}, api.ErrOverflow}, {[]item{a}, api.OK},
	} {
		if got, e := resource.Merge(x.l); e != x.e || e != api.OK && !resource.Equal(problem{Items: []item{got}}, problem{Items: []item{{}}}) {
			t.Error("Merge", n, e, "want", x.e)
		}
	}
	// 18447 times 10^15 is little more than 2^64.
	var huge []item
	for n := range 18447 {
		huge = append(huge, item{Id: n, Seq: n, Postings: move("A", "B", most)})
	}
	if _, e := resource.Merge(huge); e != api.ErrOverflow {
		t.Error("sum of more than 64 bits", e)
	}
}

// sample is a problem with three payments and rooms.
func sample() problem {
	return problem{
		Rooms: []room{{mul("A"), 7}, {bal("A"), 3}, {bil("A", "B"), -4}, {bal("B"), 0}},
		Items: []item{pay(5, 0, "A", "B", 4), pay(1, 0, "B", "A", 2, 5), pay(3, 2, "A", "C", 1, 1, 5)},
	}
}

// P28.5
func TestProblemCheck(t *testing.T) {
	with := func(change func(p *problem)) problem { p := sample(); change(&p); return p }
	for n, x := range []struct {
		p problem
		e api.Errno
	}{
		{problem{}, api.OK}, {sample(), api.OK}, {problem{Items: make([]item, 4097), Rooms: []room{{}}}, api.ErrLimit}, {problem{Rooms: make([]room, 4*4096+1)}, api.ErrLimit}, {problem{Items: make([]item, 4096)}, api.ErrDuplicate},
		{problem{Rooms: []room{{res{Kind: 3, Account: cash("A")}, 5 * most}}}, api.ErrKind}, {problem{Rooms: []room{{res{Kind: -1}, 0}}}, api.ErrKind},
		{problem{Rooms: []room{{res{}, 5 * most}}}, api.ErrFormat}, {problem{Rooms: []room{{res{Account: api.Account{Owner: "A"}}, 0}}}, api.ErrFormat}, {problem{Rooms: []room{{res{Account: api.Account{Owner: "A", Kind: 5, Asset: "X"}}, 0}}}, api.ErrFormat},
		{problem{Rooms: []room{{res{Account: cash("A"), From: "A"}, 0}}}, api.ErrFormat}, {problem{Rooms: []room{{res{Account: cash("A"), To: "A"}, 0}}}, api.ErrFormat},
		{problem{Rooms: []room{{bil("A", "A"), 0}}}, api.ErrFormat}, {problem{Rooms: []room{{bil("A", ""), 0}}}, api.ErrFormat}, {problem{Rooms: []room{{bil("", "A"), 0}}}, api.ErrFormat}, {problem{Rooms: []room{{res{Kind: 1, From: "A", To: "B", Account: cash("A")}, 0}}}, api.ErrFormat},
		{problem{Rooms: []room{{mul(""), 0}}}, api.ErrFormat}, {problem{Rooms: []room{{res{Kind: 2, From: "A", To: "B"}, 0}}}, api.ErrFormat}, {problem{Rooms: []room{{res{Kind: 2, From: "A", Account: cash("A")}, 0}}}, api.ErrFormat},
		{problem{Rooms: []room{{mul("A"), 4*most + 1}, {res{}, 0}}}, api.ErrOverflow}, {problem{Rooms: []room{{mul("A"), -4*most - 1}}}, api.ErrOverflow}, {problem{Rooms: []room{{mul("A"), 4 * most}, {mul("B"), -4 * most}}}, api.OK},
		{problem{Rooms: []room{{mul("A"), 4 * most}, {mul("A"), 0}}}, api.ErrDuplicate},
		{with(func(p *problem) { p.Items[1].Priority = 3; p.Items[0].After = []int{77} }), api.ErrRange}, {with(func(p *problem) { p.Items[1].Id = 3 }), api.ErrDuplicate}, {with(func(p *problem) { p.Items[1].Seq = 3 }), api.ErrDuplicate},
		{with(func(p *problem) { p.Items[0].After = []int{77}; p.Items[2].Seq = 5 }), api.ErrDuplicate}, {with(func(p *problem) { p.Items[0].After = []int{77} }), api.ErrNotFound}, {with(func(p *problem) { p.Items[0].After = []int{3} }), api.OK},
	} {
		if e := x.p.Check(); e != x.e {
			t.Error("problem", n, e, "want", x.e)
		}
		totals, e := x.p.Totals(nil)
		left, e2 := x.p.Settle(nil)
		if e != x.e || e2 != x.e || e != api.OK && (len(totals) != 0 || !resource.Equal(left, problem{})) {
			t.Error("Totals and Settle of problem", n, e, e2)
		}
	}
}

// P28.6
func TestQueries(t *testing.T) {
	p := sample()
	if !slices.Equal(p.Order(), []int{3, 1, 5}) {
		t.Error("Order", p.Order())
	}
	for _, x := range []struct {
		r    res
		want []int
	}{{bal("A"), []int{3, 5}}, {bal("B"), []int{1}}, {bal("C"), nil}, {mul("A"), []int{3, 5}}, {bil("A", "C"), []int{3}}, {bil("B", "A"), []int{1}}, {res{Kind: 9}, nil}, {res{}, nil}} {
		if got := p.Queue(x.r); !slices.Equal(got, x.want) {
			t.Error("Queue", x.r, got)
		}
	}
	i, ok := p.Item(1)
	if !ok || i.Seq != 1 || len(i.Postings) != 2 {
		t.Error("Item", i, ok)
	}
	i.Postings[0].Delta, i.Payments[0].Amount, i.After[0] = 9, 9, 9
	if i, ok := p.Item(2); ok || !resource.Equal(problem{Items: []item{i}}, problem{Items: []item{{}}}) {
		t.Error("Item", i)
	}
	if x, ok := p.Room(bil("A", "B")); x != -4 || !ok {
		t.Error("Room", x, ok)
	}
	if x, ok := p.Room(bal("C")); x != 0 || ok {
		t.Error("Room", x, ok)
	}
	if !resource.Equal(p, sample()) {
		t.Error("the problem was changed")
	}
	p.Items[0].Priority = -1
	_, ok1 := p.Item(1)
	_, ok2 := p.Room(mul("A"))
	if len(p.Order()) != 0 || len(p.Queue(mul("A"))) != 0 || ok1 || ok2 {
		t.Error("invalid problem")
	}
}

// P28.7 P28.8
func TestSettle(t *testing.T) {
	p := sample()
	for _, x := range []struct {
		set []int
		e   api.Errno
	}{{[]int{1, 2, 1}, api.ErrNotFound}, {[]int{1, 1, 2}, api.ErrDuplicate}} {
		l, e := p.Totals(x.set)
		q, e2 := p.Settle(x.set)
		if len(l) != 0 || e != x.e || !resource.Equal(q, problem{}) || e2 != x.e {
			t.Error("set", x.set, e, e2)
		}
	}
	l, e := p.Totals([]int{5, 3})
	if e != api.OK || !slices.Equal(l, []room{{mul("A"), 2}, {bal("A"), -2}, {bil("A", "B"), -8}, {bal("B"), 4}}) {
		t.Error("Totals", l, e)
	}
	q, e := p.Settle([]int{5})
	want := problem{Rooms: []room{{mul("A"), 3}, {bal("A"), -1}, {bil("A", "B"), -8}, {bal("B"), 4}}, Items: []item{pay(1, 0, "B", "A", 2), pay(3, 2, "A", "C", 1, 1)}}
	if e != api.OK || !resource.Equal(q, want) {
		t.Error("Settle", q, e)
	}
	q.Rooms[0].Amount, q.Items[0].Postings[0].Delta, q.Items[1].After[0] = 99, 99, 99
	if !resource.Equal(p, sample()) {
		t.Error("memory is shared")
	}
	first, _ := p.Settle([]int{5})
	second, _ := first.Settle([]int{3, 1})
	both, _ := p.Settle([]int{1, 3, 5})
	if !resource.Equal(second, both) {
		t.Error("one after the other", second, both)
	}
	p.Rooms[1].Amount = -4 * most
	if q, e := p.Settle([]int{3}); !resource.Equal(q, problem{}) || e != api.ErrOverflow {
		t.Error("overflow", e)
	}
	if l, e := p.Totals([]int{3}); len(l) != 4 || l[1].Amount != -4*most-1 || e != api.OK {
		t.Error("Totals beyond the bounds", l, e)
	}
	for n, change := range []func(p *problem){func(p *problem) { p.Rooms[0].Amount++ }, func(p *problem) { slices.Reverse(p.Rooms) }, func(p *problem) { slices.Reverse(p.Items) }, func(p *problem) { p.Items[0].Id++ }, func(p *problem) { p.Items[0].Seq++ }, func(p *problem) { p.Items[0].Priority++ }, func(p *problem) { p.Items[0].Postings = nil }, func(p *problem) { p.Items[0].Payments = nil }, func(p *problem) { p.Items[2].After = []int{5, 1} }} {
		q := sample()
		change(&q)
		if resource.Equal(q, sample()) {
			t.Error("Equal", n)
		}
	}
}

// Example 1
func TestExample(t *testing.T) {
	l, e := pay(1, 0, "A", "B", 5).Deltas()
	want := []resource.Delta{{Resource: bal("A"), Amount: -5}, {Resource: bal("B"), Amount: 5}, {Resource: bil("A", "B"), Amount: -5}, {Resource: bil("B", "A"), Amount: 5}, {Resource: mul("A"), Amount: -5}, {Resource: mul("B"), Amount: 5}}
	if !slices.Equal(l, want) || e != api.OK {
		t.Error(l, e)
	}
}
