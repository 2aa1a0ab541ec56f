package offset_test

import (
	"slices"
	"testing"

	"giro/api"
	"giro/feasible"
	"giro/offset"
	"giro/resource"
)

type (
	item      = resource.Item
	problem   = resource.Problem
	res       = resource.Resource
	room      = resource.Room
	exclusion = offset.Exclusion
)

func cash(owner string) api.Account { return api.Account{Owner: owner, Asset: api.Cash} }

func bal(owner string) res { return res{Kind: resource.Balance, Account: cash(owner)} }

func pay(id, priority int, from, to string, x int64, after ...int) item {
	return item{Id: id, Priority: priority, Seq: id, After: after,
		Postings: []api.Posting{{Account: cash(from), Delta: -x}, {Account: cash(to), Delta: x}}, Payments: []resource.Payment{{From: from, To: to, Amount: x}}}
}

// random returns a problem with n items and rooms around a level.
func random(seed uint64, n, level int) problem {
	next := func(n int) int { seed = seed*6364136223846793005 + 1442695040888963407; return int(seed>>33) % n }
	members := []string{"A", "B", "C", "D"}
	var p problem
	for _, m := range members {
		if next(6) > 0 {
			p.Rooms = append(p.Rooms, room{Resource: bal(m), Amount: int64(next(2*level+1) - 2)})
		}
	}
	p.Rooms = append(p.Rooms, room{Resource: res{Kind: resource.Bilateral, From: "A", To: "B"}, Amount: int64(next(level + 1))}, room{Resource: res{Kind: resource.Multilateral, From: "C"}, Amount: int64(next(level+1) - 1)})
	for id := 1; id <= n; id++ {
		from := next(4)
		i := pay(id*37%101, next(3), members[from], members[(from+1+next(3))%4], int64(next(8)))
		i.Seq = id
		p.Items = append(p.Items, i)
	}
	for k := range p.Items {
		other := p.Items[next(n)].Id
		if next(5) == 0 && other != p.Items[k].Id {
			p.Items[k].After = []int{other}
		}
	}
	return p
}

// explain follows the removal procedure by its words.
func explain(p problem) ([]int, []exclusion) {
	set := p.Order()
	in := func(id int) bool { return slices.Contains(set, id) }
	rooms := slices.Clone(p.Rooms)
	slices.SortFunc(rooms, func(a, b room) int { return resource.Compare(a.Resource, b.Resource) })
	reason := func(id int) (exclusion, bool) {
		i, _ := p.Item(id)
		for _, r := range rooms {
			q := p.Queue(r.Resource)
			for _, other := range q[:max(slices.Index(q, id), 0)] {
				if !in(other) {
					return exclusion{id, offset.Queue, r.Resource, other}, true
				}
			}
		}
		for _, a := range i.After {
			if !in(a) {
				return exclusion{Id: id, Reason: offset.Dependency, By: a}, true
			}
		}
		return exclusion{}, false
	}
	shortage := func() (exclusion, bool) {
		l, _ := feasible.Violations(p, set)
		if len(l) == 0 {
			return exclusion{}, false
		}
		q := p.Queue(l[0].Resource)
		slices.Reverse(q)
		return exclusion{q[slices.IndexFunc(q, in)], offset.Shortage, l[0].Resource, -1}, true
	}
	var l []exclusion
	for {
		var x exclusion
		found := false
		for _, id := range set {
			if x, found = reason(id); found {
				break
			}
		}
		if !found {
			x, found = shortage()
		}
		if !found {
			return set, l
		}
		l = append(l, x)
		set = slices.DeleteFunc(set, func(id int) bool { return id == x.Id })
	}
}

// gross follows the words of settling one by one.
func gross(p problem) []int {
	var l []int
	for {
		next := -1
		for _, id := range p.Order() {
			if ok, _ := feasible.Feasible(p, []int{id}); ok {
				next = id
				break
			}
		}
		if next < 0 {
			return l
		}
		l = append(l, next)
		p, _ = p.Settle([]int{next})
	}
}

// P30.1 P30.2 P30.3 P30.4
func TestRandom(t *testing.T) {
	for seed := range uint64(250) {
		n := 4 + int(seed%8)
		p := random(seed, n, 3+int(seed%5))
		if e := p.Check(); e != api.OK {
			t.Fatal("problem", seed, e)
		}
		set, l := explain(p)
		got, why, e := offset.Explain(p)
		if !slices.Equal(got, set) || !slices.Equal(why, l) || e != api.OK {
			t.Fatal("Explain", seed, got, why, "want", set, l)
		}
		largest, e := offset.Largest(p)
		union, _ := feasible.Union(p)
		sorted := slices.Sorted(slices.Values(largest))
		if !slices.Equal(largest, set) || e != api.OK || !slices.Equal(sorted, union) {
			t.Fatal("Largest", seed, largest, union)
		}
		rest, e := offset.AtRest(p)
		if rest != (len(set) == 0) || e != api.OK {
			t.Error("AtRest", seed, rest)
		}
		is, e := offset.IsLargest(p, sorted)
		not, e2 := offset.IsLargest(p, slices.Concat(sorted, others(p, sorted)[:min(1, n-len(sorted))]))
		if !is || e != api.OK || not != (len(sorted) == n) || e2 != api.OK {
			t.Error("IsLargest", seed, is, not)
		}
		if len(sorted) > 0 {
			if less, _ := offset.IsLargest(p, sorted[1:]); less {
				t.Error("IsLargest of a part")
			}
		}
		left, _ := p.Settle(set)
		if again, _ := offset.Largest(left); len(again) != 0 {
			t.Error("after settling,", again, "can settle")
		}
		checkGross(t, seed, p, set)
	}
}

func others(p problem, set []int) []int {
	var l []int
	for _, i := range p.Items {
		if !slices.Contains(set, i.Id) {
			l = append(l, i.Id)
		}
	}
	return l
}

func checkGross(t *testing.T, seed uint64, p problem, set []int) {
	t.Helper()
	one, e := offset.Gross(p)
	if !slices.Equal(one, gross(p)) || e != api.OK {
		t.Error("Gross", seed, one, gross(p))
	}
	for _, id := range one {
		if !slices.Contains(set, id) {
			t.Error("settles alone, but not together:", id)
		}
	}
	need, e := offset.Need(p)
	short, _ := feasible.Violations(p, p.Order())
	var want []room
	for _, v := range short {
		want = append(want, room{Resource: v.Resource, Amount: v.Shortfall})
	}
	if !slices.Equal(need, want) || e != api.OK {
		t.Error("Need", seed, need, want)
	}
	shuffled := problem{Rooms: slices.Clone(p.Rooms), Items: slices.Clone(p.Items)}
	slices.Reverse(shuffled.Rooms)
	slices.Reverse(shuffled.Items)
	if got, _ := offset.Largest(shuffled); !slices.Equal(got, set) {
		t.Error("another order of the lists gives", got)
	}
	for n := range shuffled.Rooms {
		shuffled.Rooms[n].Amount += 2
	}
	larger, _ := offset.Largest(shuffled)
	for _, id := range set {
		if !slices.Contains(larger, id) {
			t.Error("larger rooms lose", id)
		}
	}
}

// P30.1
func TestErrors(t *testing.T) {
	bad := random(1, 5, 3)
	bad.Items[0].Priority = 9
	a, e1 := offset.Largest(bad)
	b, l, e2 := offset.Explain(bad)
	c, e3 := offset.AtRest(bad)
	d, e4 := offset.IsLargest(bad, []int{999})
	f, e5 := offset.Gross(bad)
	g, e6 := offset.Need(bad)
	if len(a) != 0 || len(b) != 0 || len(l) != 0 || c || d || len(f) != 0 || len(g) != 0 {
		t.Error("results with an error")
	}
	for n, e := range []api.Errno{e1, e2, e3, e4, e5, e6} {
		if e != api.ErrRange {
			t.Error("function", n, e)
		}
	}
	p := random(1, 5, 3)
	id := p.Items[0].Id
	for _, x := range []struct {
		set []int
		e   api.Errno
	}{{[]int{id, 999, id}, api.ErrNotFound}, {[]int{id, id, 999}, api.ErrDuplicate}} {
		if is, e := offset.IsLargest(p, x.set); is || e != x.e {
			t.Error("IsLargest", x.set, is, e)
		}
	}
	if rest, e := offset.AtRest(problem{}); !rest || e != api.OK {
		t.Error("empty problem", rest, e)
	}
}

// P30.2: By is the first missing element of After in its own order.
func TestDependency(t *testing.T) {
	p := problem{Rooms: []room{{Resource: bal("A"), Amount: 0}}, Items: []item{pay(1, 0, "A", "B", 5), pay(2, 0, "A", "B", 5), pay(3, 2, "B", "C", 5, 2, 1)}}
	set, l, e := offset.Explain(p)
	want := []exclusion{{2, offset.Shortage, bal("A"), -1}, {Id: 3, Reason: offset.Dependency, By: 2}, {1, offset.Shortage, bal("A"), -1}}
	if len(set) != 0 || !slices.Equal(l, want) || e != api.OK {
		t.Error(set, l, e)
	}
}

// P30.1: as many items as a problem may have.
func TestLarge(t *testing.T) {
	var p problem
	names := make([]string, resource.MaxItems)
	for n := range names {
		names[n] = "M" + string(rune('A'+n%26)) + string(rune('A'+n/26%26)) + string(rune('A'+n/676))
		p.Rooms = append(p.Rooms, room{Resource: bal(names[n])})
	}
	for n := range names {
		p.Items = append(p.Items, pay(n, 0, names[n], names[(n+1)%len(names)], 5))
	}
	if all, e := offset.Largest(p); len(all) != len(names) || e != api.OK {
		t.Error("circle", len(all), e)
	}
	p.Items[0].Payments[0].Amount, p.Items[0].Postings[0].Delta, p.Items[0].Postings[1].Delta = 4, -4, 4
	if none, e := offset.Largest(p); len(none) != 0 || e != api.OK {
		t.Error("broken circle", len(none), e)
	}
	p.Rooms[1].Amount = 1
	if all, e := offset.Gross(p); len(all) != 0 || e != api.OK {
		t.Error("Gross", len(all), e)
	}
	p.Rooms[0].Amount = 4
	if all, e := offset.Gross(p); len(all) != len(names) || all[1] != 1 || e != api.OK {
		t.Error("Gross", len(all), e)
	}
}

// P30.4
func TestSeparateProblems(t *testing.T) {
	for seed := range uint64(20) {
		p, q := random(seed, 6, 4), random(seed+50, 6, 4)
		for n := range q.Items {
			i := &q.Items[n]
			i.Id, i.Seq = i.Id+1000, i.Seq+1000
			for k := range i.After {
				i.After[k] += 1000
			}
			for k := range i.Postings {
				i.Postings[k].Account.Owner += "2"
			}
			for k := range i.Payments {
				i.Payments[k].From += "2"
				i.Payments[k].To += "2"
			}
		}
		for n := range q.Rooms {
			r := &q.Rooms[n].Resource
			switch r.Kind {
			case resource.Balance:
				r.Account.Owner += "2"
			case resource.Bilateral:
				r.From, r.To = r.From+"2", r.To+"2"
			default:
				r.From += "2"
			}
		}
		a, _ := offset.Largest(p)
		b, _ := offset.Largest(q)
		both, e := offset.Largest(problem{Rooms: append(p.Rooms, q.Rooms...), Items: append(p.Items, q.Items...)})
		union := slices.Sorted(slices.Values(append(a, b...)))
		if !slices.Equal(slices.Sorted(slices.Values(both)), union) || e != api.OK {
			t.Error(seed, both, union)
		}
	}
}

// T6: members with cash equal to their net needs can settle all payments between them.
func TestLiquidity(t *testing.T) {
	for seed := range uint64(30) {
		p := random(seed, 12, 5)
		p.Rooms = nil
		for _, m := range []string{"A", "B", "C", "D"} {
			p.Rooms = append(p.Rooms, room{Resource: bal(m)})
		}
		for n := range p.Items {
			p.Items[n].After = nil
		}
		need, _ := offset.Need(p)
		for _, r := range need {
			for n := range p.Rooms {
				if p.Rooms[n].Resource == r.Resource {
					p.Rooms[n].Amount = r.Amount
				}
			}
		}
		if all, _ := offset.Largest(p); len(all) != len(p.Items) {
			t.Error("seed", seed, len(all))
		}
	}
}

// Example 1
func TestExample(t *testing.T) {
	p := problem{Rooms: []room{{Resource: bal("A")}, {Resource: bal("B")}, {Resource: bal("C")}}, Items: []item{pay(1, 0, "A", "B", 5), pay(2, 0, "B", "C", 5), pay(3, 0, "C", "A", 5)}}
	all, _ := offset.Largest(p)
	one, _ := offset.Gross(p)
	if !slices.Equal(all, []int{1, 2, 3}) || len(one) != 0 {
		t.Error(all, one)
	}
	p.Items = append(p.Items, pay(4, 0, "A", "B", 1))
	set, l, _ := offset.Explain(p)
	if !slices.Equal(set, []int{1, 2, 3}) || !slices.Equal(l, []exclusion{{4, offset.Shortage, bal("A"), -1}}) {
		t.Error(set, l)
	}
}
