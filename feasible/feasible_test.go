package feasible_test

import (
	"cmp"
	"maps"
	"slices"
	"testing"

	"giro/api"
	"giro/feasible"
	"giro/resource"
)

type (
	item    = resource.Item
	problem = resource.Problem
	res     = resource.Resource
	room    = resource.Room
	blocked = feasible.Blocked
)

func cash(owner string) api.Account { return api.Account{Owner: owner, Asset: api.Cash} }

func bal(owner string) res { return res{Kind: resource.Balance, Account: cash(owner)} }

func pay(id, priority int, from, to string, x int64, after ...int) item {
	return item{Id: id, Priority: priority, Seq: id, After: after,
		Postings: []api.Posting{{Account: cash(from), Delta: -x}, {Account: cash(to), Delta: x}}, Payments: []resource.Payment{{From: from, To: to, Amount: x}}}
}

// random returns a small problem.
func random(seed uint64, n int) problem {
	next := func(n uint64) int { seed = seed*6364136223846793005 + 1442695040888963407; return int(seed >> 33 % n) }
	members := []string{"A", "B", "C"}
	var p problem
	for _, m := range members {
		if next(5) > 0 {
			p.Rooms = append(p.Rooms, room{Resource: bal(m), Amount: int64(next(9) - 2)})
		}
	}
	p.Rooms = append(p.Rooms, room{Resource: res{Kind: resource.Bilateral, From: "A", To: "B"}, Amount: int64(next(5))}, room{Resource: res{Kind: resource.Multilateral, From: "C"}, Amount: int64(next(5) - 1)})
	for id := 1; id <= n; id++ {
		from := next(3)
		i := pay(id*7%(n+3)+20*(id%2), next(3), members[from], members[(from+1+next(2))%3], int64(next(6)))
		i.Seq = id
		p.Items = append(p.Items, i)
	}
	for k := range p.Items {
		other := p.Items[next(uint64(n))].Id
		if next(4) == 0 && other != p.Items[k].Id {
			p.Items[k].After = []int{other}
		}
	}
	return p
}

// blockers returns, by the words of the chapter, what is missing in a set.
func blockers(p problem, set []int) []blocked {
	var l []blocked
	rooms := slices.Clone(p.Rooms)
	slices.SortFunc(rooms, func(a, b room) int { return resource.Compare(a.Resource, b.Resource) })
	for _, id := range p.Order() {
		if !slices.Contains(set, id) {
			continue
		}
		i, _ := p.Item(id)
		for _, a := range slices.Sorted(slices.Values(i.After)) {
			if !slices.Contains(set, a) {
				l = append(l, blocked{Item: id, Missing: a})
			}
		}
		for _, r := range rooms {
			q := p.Queue(r.Resource)
			at := slices.Index(q, id)
			for n := 0; n < at; n++ {
				if !slices.Contains(set, q[n]) {
					l = append(l, blocked{id, q[n], r.Resource})
				}
			}
		}
	}
	return l
}

func violations(p problem, set []int) []feasible.Violation {
	var l []feasible.Violation
	for _, r := range p.Rooms {
		var sum int64
		for _, id := range set {
			i, _ := p.Item(id)
			sum += i.Delta(r.Resource)
		}
		if short := -(sum + max(r.Amount, 0)); sum < 0 && short > 0 {
			l = append(l, feasible.Violation{Resource: r.Resource, Shortfall: short})
		}
	}
	slices.SortFunc(l, func(a, b feasible.Violation) int { return resource.Compare(a.Resource, b.Resource) })
	return l
}

// subsets returns all sets of items, by size and then in lexicographic order.
func subsets(p problem) [][]int {
	ids := slices.Sorted(slices.Values(p.Order()))
	var l [][]int
	for mask := range 1 << len(ids) {
		var set []int
		for n, id := range ids {
			if mask>>n&1 == 1 {
				set = append(set, id)
			}
		}
		l = append(l, set)
	}
	slices.SortFunc(l, func(a, b []int) int { return cmp.Or(cmp.Compare(len(a), len(b)), slices.Compare(a, b)) })
	return l
}

func contains(a, b []int) bool {
	return !slices.ContainsFunc(b, func(x int) bool { return !slices.Contains(a, x) })
}

// P29.2 P29.3 P29.4 P29.5
func TestRandom(t *testing.T) {
	for seed := range uint64(60) {
		p := random(seed, 6)
		if e := p.Check(); e != api.OK {
			t.Fatal("problem", seed, e)
		}
		var admissible, good [][]int
		union := map[int]bool{}
		for _, set := range subsets(p) {
			shuffled := slices.Clone(set)
			slices.Reverse(shuffled)
			want := blockers(p, set)
			if got, e := feasible.Blocks(p, shuffled); !slices.Equal(got, want) || e != api.OK {
				t.Fatal("Blocks", seed, set, got, want)
			}
			short := violations(p, set)
			if got, e := feasible.Violations(p, shuffled); !slices.Equal(got, short) || e != api.OK {
				t.Fatal("Violations", seed, set, got, short)
			}
			is, e := feasible.Admissible(p, shuffled)
			if is != (len(want) == 0) || e != api.OK {
				t.Fatal("Admissible", seed, set)
			}
			ok, e := feasible.Feasible(p, shuffled)
			if ok != (is && len(short) == 0) || e != api.OK {
				t.Fatal("Feasible", seed, set)
			}
			if is {
				admissible = append(admissible, set)
			}
			if ok {
				good = append(good, set)
				for _, id := range set {
					union[id] = true
				}
			}
		}
		checkSets(t, p, admissible, good, slices.Sorted(maps.Keys(union)))
	}
}

// checkSets compares the functions on all sets with the admissible and the feasible ones.
func checkSets(t *testing.T, p problem, admissible, good [][]int, union []int) {
	t.Helper()
	var all [][]int
	for set := range feasible.All(p) {
		all = append(all, set)
	}
	if !slices.EqualFunc(all, admissible, slices.Equal[[]int]) {
		t.Error("All", all, "want", admissible)
	}
	n, m, e := feasible.Count(p)
	if n != len(admissible) || m != len(good) || e != api.OK {
		t.Error("Count", n, m, e)
	}
	got, e := feasible.Union(p)
	if !slices.Equal(got, union) || e != api.OK {
		t.Error("Union", got, union)
	}
	if ok, _ := feasible.Feasible(p, got); !ok {
		t.Error("the union is not feasible")
	}
	left, _ := p.Settle(got)
	if rest, _ := feasible.Union(left); len(rest) != 0 {
		t.Error("after the union settled,", rest, "can settle")
	}
	for _, set := range subsets(p) {
		var least, largest []int
		found := false
		for _, a := range admissible {
			if contains(a, set) && !found {
				least, found = a, true
			}
			if contains(set, a) {
				largest = a
			}
		}
		closure, e1 := feasible.Closure(p, set)
		interior, e2 := feasible.Interior(p, set)
		if !slices.Equal(closure, least) || !slices.Equal(interior, largest) || e1 != api.OK || e2 != api.OK {
			t.Error("Closure, Interior of", set, closure, least, interior, largest)
		}
	}
}

// P29.1
func TestErrors(t *testing.T) {
	p := random(1, 5)
	bad := random(1, 5)
	bad.Items[0].Priority = 9
	id := p.Items[0].Id
	for _, x := range []struct {
		p   problem
		set []int
		e   api.Errno
	}{{bad, []int{999}, api.ErrRange}, {p, []int{id, 999, id}, api.ErrNotFound}, {p, []int{id, id, 999}, api.ErrDuplicate}} {
		a, e1 := feasible.Admissible(x.p, x.set)
		b, e2 := feasible.Blocks(x.p, x.set)
		c, e3 := feasible.Closure(x.p, x.set)
		d, e4 := feasible.Interior(x.p, x.set)
		f, e5 := feasible.Violations(x.p, x.set)
		g, e6 := feasible.Feasible(x.p, x.set)
		if a || len(b) != 0 || len(c) != 0 || len(d) != 0 || len(f) != 0 || g {
			t.Error("results with an error")
		}
		for n, e := range []api.Errno{e1, e2, e3, e4, e5, e6} {
			if e != x.e {
				t.Error("function", n, e, "want", x.e)
			}
		}
	}
	large := random(1, 21)
	larger := large
	larger.Rooms = append(larger.Rooms, larger.Rooms[0])
	for _, x := range []struct {
		p problem
		e api.Errno
	}{{bad, api.ErrRange}, {large, api.ErrLimit}, {larger, api.ErrDuplicate}} {
		u, e1 := feasible.Union(x.p)
		n, m, e2 := feasible.Count(x.p)
		if len(u) != 0 || e1 != x.e || n != 0 || m != 0 || e2 != x.e {
			t.Error("Union, Count", e1, e2, "want", x.e)
		}
		for range feasible.All(x.p) {
			t.Error("All of an invalid or large problem")
		}
	}
	if _, e := feasible.Closure(large, []int{large.Items[3].Id}); e != api.OK {
		t.Error("large problem", e)
	}
}

// P29.4
func TestIteration(t *testing.T) {
	n := 0
	for range feasible.All(random(2, 6)) {
		n++
		if n == 2 {
			break
		}
	}
	if n != 2 {
		t.Error("iteration goes on")
	}
	free := problem{}
	for id := range feasible.MaxSmall {
		free.Items = append(free.Items, item{Id: id, Seq: id})
	}
	if a, b, e := feasible.Count(free); a != 1<<20 || b != 1<<20 || e != api.OK {
		t.Error("Count", a, b, e)
	}
	for set := range feasible.All(problem{}) {
		if len(set) != 0 {
			t.Error("sets of no items", set)
		}
	}
}

// P29.5
func TestLargerRooms(t *testing.T) {
	for seed := range uint64(20) {
		p := random(seed, 7)
		q := random(seed, 7)
		for n := range q.Rooms {
			q.Rooms[n].Amount += 2
		}
		for set := range feasible.All(p) {
			before, _ := feasible.Feasible(p, set)
			after, _ := feasible.Feasible(q, set)
			if before && !after {
				t.Error("a larger room makes a set infeasible", seed, set)
			}
		}
		if !resource.Equal(p, random(seed, 7)) {
			t.Error("the argument was changed")
		}
	}
}

// P29.3: a negative room counts as 0.
func TestNegativeRoom(t *testing.T) {
	p := problem{Rooms: []room{{Resource: bal("A"), Amount: -7}}, Items: []item{pay(1, 0, "A", "B", 5), pay(2, 0, "B", "A", 9)}}
	one, _ := feasible.Violations(p, []int{1})
	both, _ := feasible.Feasible(p, []int{1, 2})
	if !slices.Equal(one, []feasible.Violation{{Resource: bal("A"), Shortfall: 5}}) || !both {
		t.Error(one, both)
	}
}

// Example 1
func TestExample(t *testing.T) {
	p := problem{Rooms: []room{{Resource: bal("A"), Amount: 0}, {Resource: bal("B"), Amount: 0}}, Items: []item{pay(1, 0, "A", "B", 5), pay(2, 0, "B", "A", 5)}}
	n, m, _ := feasible.Count(p)
	u, _ := feasible.Union(p)
	if n != 4 || m != 2 || !slices.Equal(u, []int{1, 2}) {
		t.Error(n, m, u)
	}
	p.Items = append(p.Items, pay(3, 0, "A", "B", 1))
	is, _ := feasible.Admissible(p, []int{3})
	v, _ := feasible.Violations(p, []int{1, 2, 3})
	if is || !slices.Equal(v, []feasible.Violation{{Resource: bal("A"), Shortfall: 1}}) {
		t.Error(is, v)
	}
}
