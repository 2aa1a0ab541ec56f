package gridlock_test

import (
	"slices"
	"testing"

	"giro/api"
	"giro/feasible"
	"giro/gridlock"
	"giro/offset"
	"giro/resource"
)

type (
	item    = resource.Item
	problem = resource.Problem
	res     = resource.Resource
	room    = resource.Room
)

func cash(owner string) api.Account { return api.Account{Owner: owner, Asset: api.Cash} }

func bal(owner string) res { return res{Kind: resource.Balance, Account: cash(owner)} }

func pay(id, priority int, from, to string, x int64, after ...int) item {
	return item{Id: id, Priority: priority, Seq: id, After: after,
		Postings: []api.Posting{{Account: cash(from), Delta: -x}, {Account: cash(to), Delta: x}}, Payments: []resource.Payment{{From: from, To: to, Amount: x}}}
}

// random returns a problem with n items among six members.
func random(seed uint64, n int) problem {
	next := func(n int) int { seed = seed*6364136223846793005 + 1442695040888963407; return int(seed>>33) % n }
	members := []string{"A", "B", "C", "D", "E", "F"}
	var p problem
	for _, m := range members {
		if next(6) > 0 {
			p.Rooms = append(p.Rooms, room{Resource: bal(m), Amount: int64(next(6) - 1)})
		}
	}
	p.Rooms = append(p.Rooms, room{Resource: res{Kind: resource.Bilateral, From: "B", To: "A"}, Amount: int64(next(5))})
	for id := 1; id <= n; id++ {
		from := next(6)
		i := pay(id*37%101, next(2), members[from], members[from/2*2+1-from%2], int64(next(6)))
		if next(4) == 0 {
			i = pay(id*37%101, next(2), members[from], members[(from+1+next(5))%6], int64(next(6)))
		}
		i.Seq = id
		p.Items = append(p.Items, i)
	}
	for k := range p.Items {
		other := p.Items[next(n)].Id
		if next(9) == 0 && other != p.Items[k].Id {
			p.Items[k].After = []int{other}
		}
	}
	return p
}

// constrained returns the deltas of an item on resources with rooms.
func constrained(p problem, id int) map[res]int64 {
	i, _ := p.Item(id)
	l := map[res]int64{}
	for _, r := range p.Rooms {
		if d := i.Delta(r.Resource); d != 0 {
			l[r.Resource] = d
		}
	}
	return l
}

func follows(p problem, a, b int) bool {
	i, _ := p.Item(a)
	return slices.Contains(i.After, b)
}

func interact(p problem, a, b int) bool {
	y := constrained(p, b)
	for r := range constrained(p, a) {
		if y[r] != 0 {
			return true
		}
	}
	return follows(p, a, b) || follows(p, b, a)
}

func waits(p problem, a, b int) bool {
	y := constrained(p, b)
	for r, d := range constrained(p, a) {
		if d < 0 && y[r] > 0 {
			return true
		}
	}
	return follows(p, a, b)
}

// classes divides a set, which is in order, by the reachability through a relation in both directions.
func classes(set []int, related func(a, b int) bool) [][]int {
	reach := map[[2]int]bool{}
	for _, a := range set {
		for _, b := range set {
			reach[[2]int{a, b}] = a == b || related(a, b)
		}
	}
	for _, k := range set {
		for _, a := range set {
			for _, b := range set {
				if reach[[2]int{a, k}] && reach[[2]int{k, b}] {
					reach[[2]int{a, b}] = true
				}
			}
		}
	}
	var l [][]int
	done := map[int]bool{}
	for _, a := range set {
		if done[a] {
			continue
		}
		var c []int
		for _, b := range set {
			if reach[[2]int{a, b}] && reach[[2]int{b, a}] {
				c = append(c, b)
				done[b] = true
			}
		}
		l = append(l, c)
	}
	return l
}

func same(a, b [][]int) bool { return slices.EqualFunc(a, b, slices.Equal[[]int]) }

// P32.1 P32.2 P32.3 P32.4 P32.5
func TestRandom(t *testing.T) {
	for seed := range uint64(120) {
		p := random(seed, 5+int(seed%7))
		if e := p.Check(); e != api.OK {
			t.Fatal("problem", seed, e)
		}
		order := p.Order()
		shuffled := slices.Clone(order)
		slices.Reverse(shuffled)
		parts := classes(order, func(a, b int) bool { return interact(p, a, b) })
		if got, e := gridlock.Components(p, shuffled); !same(got, parts) || e != api.OK {
			t.Fatal("Components", seed, got, parts)
		}
		var lists [][]int
		for _, a := range order {
			var l []int
			for _, b := range order {
				if a != b && waits(p, a, b) {
					l = append(l, b)
				}
			}
			lists = append(lists, l)
		}
		if got, e := gridlock.WaitsFor(p); !same(got, lists) || e != api.OK {
			t.Fatal("WaitsFor", seed, got, lists)
		}
		checkReport(t, seed, p)
		checkRestrictions(t, seed, p, parts)
	}
}

func checkReport(t *testing.T, seed uint64, p problem) {
	t.Helper()
	settles, _ := offset.Largest(p)
	gross, _ := offset.Gross(p)
	rest := slices.DeleteFunc(slices.Clone(settles), func(id int) bool { return slices.Contains(gross, id) })
	circles := slices.DeleteFunc(classes(rest, func(a, b int) bool { return waits(p, a, b) }), func(c []int) bool { return len(c) < 2 })
	var blocked []gridlock.Block
	for _, id := range p.Order() {
		if !slices.Contains(settles, id) {
			closure, _ := feasible.Closure(p, []int{id})
			v, _ := feasible.Violations(p, closure)
			blocked = append(blocked, gridlock.Block{Item: id, Resource: v[0].Resource, Shortfall: v[0].Shortfall})
		}
	}
	parts := classes(settles, func(a, b int) bool { return interact(p, a, b) })
	r, e := gridlock.Analyze(p)
	if !slices.Equal(r.Settles, settles) || !slices.Equal(r.Gross, gross) || !same(r.Components, parts) || !same(r.Circles, circles) || !slices.Equal(r.Blocked, blocked) || e != api.OK {
		t.Fatalf("Analyze %d: %+v, want %v %v %v %v %v", seed, r, settles, gross, parts, circles, blocked)
	}
	c, e1 := gridlock.Circles(p)
	b, e2 := gridlock.Blocks(p)
	if !same(c, circles) || !slices.Equal(b, blocked) || e1 != api.OK || e2 != api.OK {
		t.Error("Circles, Blocks", c, b)
	}
}

func checkRestrictions(t *testing.T, seed uint64, p problem, parts [][]int) {
	t.Helper()
	largest, _ := offset.Largest(p)
	var union []int
	for _, part := range parts {
		r, e := gridlock.Restrict(p, part)
		if e != api.OK || r.Check() != api.OK {
			t.Fatal("Restrict", seed, e)
		}
		set, _ := offset.Largest(r)
		union = append(union, set...)
	}
	slices.Sort(union)
	slices.Sort(largest)
	if !slices.Equal(union, largest) {
		t.Error("union of the restrictions", seed, union, largest)
	}
	settling, _ := gridlock.Components(p, largest)
	for _, c := range settling {
		r, _ := gridlock.Restrict(p, c)
		if all, _ := offset.Largest(r); !slices.Equal(all, c) {
			t.Error("component", c, "settles", all)
		}
	}
	if !resource.Equal(p, random(seed, len(p.Items))) {
		t.Error("the argument was changed")
	}
}

// P32.1
func TestRestrict(t *testing.T) {
	p := problem{Rooms: []room{{Resource: bal("C"), Amount: 1}, {Resource: bal("B"), Amount: 2}, {Resource: bal("A"), Amount: 3}, {Resource: res{Kind: resource.Multilateral, From: "A"}, Amount: 4}},
		Items: []item{pay(3, 0, "A", "B", 1, 1, 2), pay(1, 0, "B", "A", 1, 2), pay(2, 0, "C", "B", 1)}}
	got, e := gridlock.Restrict(p, []int{1, 3})
	want := problem{Rooms: p.Rooms[1:], Items: []item{pay(3, 0, "A", "B", 1, 1), pay(1, 0, "B", "A", 1)}}
	if !resource.Equal(got, want) || e != api.OK {
		t.Error(got, e)
	}
	got.Items[0].Postings[0].Delta, got.Items[0].Payments[0].Amount, got.Items[0].After[0], got.Rooms[0].Amount = 9, 9, 9, 9
	if p.Items[0].Postings[0].Delta != -1 || p.Items[0].Payments[0].Amount != 1 || p.Items[0].After[0] != 1 || p.Rooms[1].Amount != 2 {
		t.Error("memory is shared")
	}
	if got, e := gridlock.Restrict(p, nil); !resource.Equal(got, problem{}) || e != api.OK {
		t.Error("empty set", got, e)
	}
}

// Contract
func TestErrors(t *testing.T) {
	bad := random(1, 5)
	bad.Items[0].Priority = 9
	r, e1 := gridlock.Analyze(bad)
	a, e2 := gridlock.Components(bad, []int{999})
	b, e3 := gridlock.Restrict(bad, []int{999})
	c, e4 := gridlock.WaitsFor(bad)
	d, e5 := gridlock.Circles(bad)
	f, e6 := gridlock.Blocks(bad)
	if len(r.Settles)+len(r.Gross)+len(r.Components)+len(r.Circles)+len(r.Blocked)+len(a)+len(c)+len(d)+len(f) != 0 || !resource.Equal(b, problem{}) {
		t.Error("results with an error")
	}
	for n, e := range []api.Errno{e1, e2, e3, e4, e5, e6} {
		if e != api.ErrRange {
			t.Error("function", n, e)
		}
	}
	p := random(1, 5)
	id := p.Items[0].Id
	for _, x := range []struct {
		set []int
		e   api.Errno
	}{{[]int{id, 999, id}, api.ErrNotFound}, {[]int{id, id, 999}, api.ErrDuplicate}} {
		a, e1 := gridlock.Components(p, x.set)
		b, e2 := gridlock.Restrict(p, x.set)
		if len(a) != 0 || e1 != x.e || !resource.Equal(b, problem{}) || e2 != x.e {
			t.Error("set", x.set, e1, e2)
		}
	}
}

// P32.4: many items.
func TestLarge(t *testing.T) {
	var p problem
	p.Rooms = []room{{Resource: bal("A")}, {Resource: bal("B")}}
	for n := range 1500 {
		p.Items = append(p.Items, pay(2*n, 0, "A", "B", 2), pay(2*n+1, 0, "B", "A", 2-int64(n/1499)))
	}
	r, e := gridlock.Analyze(p)
	if e != api.OK || len(r.Settles) != 2998 || len(r.Circles) != 1 || len(r.Circles[0]) != 2998 || !slices.Equal(r.Blocked, []gridlock.Block{{Item: 2998, Resource: bal("A"), Shortfall: 3000}, {Item: 2999, Resource: bal("B"), Shortfall: 2999}}) {
		t.Error(len(r.Settles), len(r.Circles), r.Blocked, e)
	}
}

// Example 1
func TestExample(t *testing.T) {
	p := problem{Rooms: []room{{Resource: bal("A")}, {Resource: bal("B")}, {Resource: bal("C")}}, Items: []item{pay(1, 0, "A", "B", 5), pay(2, 0, "B", "C", 5), pay(3, 0, "C", "A", 5), pay(4, 0, "A", "D", 4)}}
	r, e := gridlock.Analyze(p)
	circle := [][]int{{1, 2, 3}}
	if !slices.Equal(r.Settles, []int{1, 2, 3}) || len(r.Gross) != 0 || !same(r.Components, circle) || !same(r.Circles, circle) || !slices.Equal(r.Blocked, []gridlock.Block{{Item: 4, Resource: bal("A"), Shortfall: 9}}) || e != api.OK {
		t.Error(r, e)
	}
}
