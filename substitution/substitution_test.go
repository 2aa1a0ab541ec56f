package substitution_test

import (
	"math/bits"
	"slices"
	"strconv"
	"testing"

	"giro/api"
	"giro/ident"
	"giro/substitution"
)

type (
	position = substitution.Position
	request  = substitution.Request
	plan     = substitution.Plan
)

const most = int64(api.MaxAmount)

func isin(n int) string {
	x, _ := ident.MakeISIN("XX", strconv.Itoa(1000+n))
	return x
}

func pos(n int, value int64) position { return position{isin(n), 10, value} }

func equal(a, b plan) bool {
	return slices.Equal(a.Pledge, b.Pledge) && slices.Equal(a.Release, b.Release) && a.Value == b.Value
}

// example is the request of the chapter: A 60, B 50; C 30, D 55, E 70.
func example() request {
	return request{Required: 100, Pool: []position{pos(0, 60), pos(1, 50)}, Withdraw: []string{isin(0)}, Free: []position{pos(2, 30), pos(3, 55), pos(4, 70)}}
}

// random returns a request with up to eight free positions.
func random(seed uint64) request {
	next := func(n int) int { seed = seed*6364136223846793005 + 1442695040888963407; return int(seed>>33) % n }
	var r request
	for n := range 1 + next(5) {
		r.Pool = append(r.Pool, pos(n, int64(next(40))))
		r.Required += r.Pool[n].Value
		if next(2) == 0 {
			r.Withdraw = append(r.Withdraw, isin(n))
		}
	}
	r.Required -= int64(next(int(r.Required) + 1))
	for n := range next(9) {
		r.Free = append(r.Free, pos(100-n*3%7-10*n, int64(next(30))))
	}
	slices.Reverse(r.Withdraw)
	return r
}

// P35.1
func TestCheck(t *testing.T) {
	many := func(from int) []position {
		var l []position
		for n := range substitution.MaxPositions + 1 {
			l = append(l, pos(from+n, 0))
		}
		return l
	}
	for n, x := range []struct {
		change func(r *request)
		e      api.Errno
	}{
		{func(r *request) {}, api.OK}, {func(r *request) { *r = request{} }, api.OK}, {func(r *request) { r.Required = -1; r.Pool = many(0) }, api.ErrRange}, {func(r *request) { r.Required = most + 1 }, api.ErrRange},
		{func(r *request) { r.Pool = many(0); r.Pool[0].ISIN = "" }, api.ErrLimit}, {func(r *request) { r.Withdraw = make([]string, 257) }, api.ErrLimit}, {func(r *request) { r.Free = many(0) }, api.ErrLimit}, {func(r *request) { r.Free = many(300)[1:] }, api.OK},
		{func(r *request) { r.Pool[1].ISIN, r.Free[0].Quantity = "x", 0 }, api.ErrUnknown}, {func(r *request) { r.Free[0].Quantity, r.Pool[1].Quantity, r.Pool[1].ISIN = 0, most+1, isin(0) }, api.ErrRange}, {func(r *request) { r.Pool[1].Quantity = 0 }, api.ErrRange},
		{func(r *request) { r.Pool[1].Value = -1 }, api.ErrRange}, {func(r *request) { r.Pool[1].Value = most + 1 }, api.ErrRange}, {func(r *request) { r.Pool[1].ISIN, r.Free[0].ISIN = isin(0), "" }, api.ErrDuplicate},
		{func(r *request) { r.Free[0].ISIN, r.Withdraw[0] = "", "" }, api.ErrUnknown}, {func(r *request) { r.Free[2].ISIN = isin(2) }, api.ErrDuplicate}, {func(r *request) { r.Free[2].ISIN = isin(1) }, api.OK},
		{func(r *request) { r.Withdraw = []string{isin(2), isin(0), isin(0)} }, api.ErrNotFound}, {func(r *request) { r.Withdraw = []string{isin(0), isin(0), "x"} }, api.ErrDuplicate}, {func(r *request) { r.Free[2].ISIN = isin(0) }, api.ErrDuplicate},
		{func(r *request) { r.Free[0].Value, r.Required = most-234, most }, api.ErrOverflow}, {func(r *request) { r.Free[0].Value = most - 235 }, api.OK}, {func(r *request) { r.Required = 111 }, api.ErrCover}, {func(r *request) { r.Required = 110 }, api.OK},
	} {
		r := example()
		x.change(&r)
		if e := substitution.Check(r); e != x.e {
			t.Error("Check", n, e, "want", x.e)
		}
		if x.e == api.OK {
			continue
		}
		a, e1 := substitution.Shortfall(r)
		b, e2 := substitution.Greedy(r)
		c, e3 := substitution.Best(r)
		d, e4 := substitution.Values(r, plan{})
		if a != 0 || !equal(b, plan{}) || !equal(c, plan{}) || len(d) != 0 || e1 != x.e || e2 != x.e || e3 != x.e || e4 != x.e || substitution.Verify(r, plan{}) != x.e {
			t.Error("functions", n, e1, e2, e3, e4)
		}
	}
}

func value(l []position) int64 {
	var sum int64
	for _, p := range l {
		sum += p.Value
	}
	return sum
}

// withdrawn returns the withdrawn positions and the kept value.
func withdrawn(r request) ([]position, int64) {
	var l []position
	for _, w := range r.Withdraw {
		l = append(l, r.Pool[slices.IndexFunc(r.Pool, func(p position) bool { return p.ISIN == w })])
	}
	return l, value(r.Pool) - value(l)
}

// best tries all selections.
func best(r request) (plan, bool) {
	release, kept := withdrawn(r)
	var found []position
	var chosen []int
	ok := false
	for mask := range 1 << len(r.Free) {
		var l []position
		var indices []int
		for n, p := range r.Free {
			if mask>>n&1 == 1 {
				l = append(l, p)
				indices = append(indices, n)
			}
		}
		if kept+value(l) < r.Required {
			continue
		}
		better := !ok || len(l) < len(found) || len(l) == len(found) && (value(l) < value(found) || value(l) == value(found) && slices.Compare(indices, chosen) < 0)
		if better {
			found, chosen, ok = l, indices, true
		}
	}
	return plan{found, release, kept + value(found)}, ok
}

// greedy considers the free positions one after another.
func greedy(r request) (plan, bool) {
	release, kept := withdrawn(r)
	p := plan{Release: release, Value: kept}
	for p.Value < r.Required {
		next := -1
		for n, x := range r.Free {
			if slices.Contains(p.Pledge, x) {
				continue
			}
			if next < 0 || x.Value > r.Free[next].Value || x.Value == r.Free[next].Value && x.ISIN < r.Free[next].ISIN {
				next = n
			}
		}
		if next < 0 {
			return plan{}, false
		}
		p.Pledge = append(p.Pledge, r.Free[next])
		p.Value += r.Free[next].Value
	}
	return p, true
}

// P35.1 P35.2 P35.3 P35.4 P35.5 P35.6
func TestRandom(t *testing.T) {
	covered := 0
	for seed := range uint64(500) {
		r := random(seed)
		if e := substitution.Check(r); e != api.OK {
			t.Fatal("request", seed, e)
		}
		_, kept := withdrawn(r)
		if s, e := substitution.Shortfall(r); s != max(0, r.Required-kept) || e != api.OK {
			t.Error("Shortfall", seed, s)
		}
		g, e1 := substitution.Greedy(r)
		b, e2 := substitution.Best(r)
		wantG, ok := greedy(r)
		wantB, _ := best(r)
		if !ok {
			if !equal(g, plan{}) || !equal(b, plan{}) || e1 != api.ErrCover || e2 != api.ErrCover {
				t.Error("no plan", seed, e1, e2)
			}
			continue
		}
		covered++
		if !equal(g, wantG) || e1 != api.OK || !equal(b, wantB) || e2 != api.OK {
			t.Error("plans", seed, g, b, "want", wantG, wantB)
		}
		if len(g.Pledge) != len(b.Pledge) || b.Value > g.Value {
			t.Error("Greedy and Best", seed)
		}
		for _, p := range []plan{g, b} {
			checkPlan(t, r, p)
		}
	}
	if covered < 100 {
		t.Error("only", covered, "plans")
	}
}

func checkPlan(t *testing.T, r request, p plan) {
	t.Helper()
	if e := substitution.Verify(r, p); e != api.OK {
		t.Error("Verify", e)
	}
	l, e := substitution.Values(r, p)
	v := value(r.Pool)
	var want []int64
	for _, x := range p.Pledge {
		v += x.Value
		want = append(want, v)
	}
	for _, x := range p.Release {
		v -= x.Value
		want = append(want, v)
	}
	if !slices.Equal(l, want) || e != api.OK || len(want) > 0 && slices.Min(want) < r.Required {
		t.Error("Values", l, want, e)
	}
}

// P35.3
func TestLimit(t *testing.T) {
	r := example()
	r.Withdraw = nil
	for n := range substitution.MaxExact - 2 {
		r.Free = append(r.Free, pos(50+n, 1))
	}
	if p, e := substitution.Best(r); !equal(p, plan{}) || e != api.ErrLimit {
		t.Error(p, e)
	}
	r.Free = r.Free[1:]
	if p, e := substitution.Best(r); len(p.Pledge) != 0 || p.Value != 110 || e != api.OK {
		t.Error("nothing missing", p, e)
	}
	// As many positions as are tried need to be tried: only all of them suffice.
	r.Required, r.Withdraw = 50+value(r.Free), []string{isin(0)}
	r.Pool[0].Value = r.Required - 50
	if p, e := substitution.Best(r); len(p.Pledge) != bits.OnesCount(1<<substitution.MaxExact-1) || e != api.OK {
		t.Error("all", len(p.Pledge), e)
	}
}

// P35.4
func TestVerify(t *testing.T) {
	r := example()
	good, _ := substitution.Best(r)
	for n, x := range []struct {
		change func(p *plan)
		e      api.Errno
	}{
		{func(p *plan) {}, api.OK}, {func(p *plan) { p.Pledge[0].Quantity++ }, api.ErrNotFound}, {func(p *plan) { p.Pledge[0].Value++ }, api.ErrNotFound}, {func(p *plan) { p.Pledge[0] = r.Pool[1] }, api.ErrNotFound},
		{func(p *plan) { p.Pledge = append(p.Pledge, p.Pledge[0], pos(9, 9)) }, api.ErrDuplicate}, {func(p *plan) { p.Pledge = append(p.Pledge, pos(9, 9), p.Pledge[0]) }, api.ErrNotFound},
		{func(p *plan) { p.Release = nil }, api.ErrMismatch}, {func(p *plan) { p.Release[0].Quantity++ }, api.ErrMismatch}, {func(p *plan) { p.Release = append(p.Release, p.Release[0]) }, api.ErrMismatch}, {func(p *plan) { p.Value++ }, api.ErrMismatch},
		{func(p *plan) { p.Pledge, p.Value = nil, 50 }, api.ErrCover}, {func(p *plan) { p.Pledge, p.Value = r.Free[:1], 80 }, api.ErrCover}, {func(p *plan) { p.Pledge, p.Value = r.Free[:2], 135 }, api.OK},
	} {
		p := plan{slices.Clone(good.Pledge), slices.Clone(good.Release), good.Value}
		x.change(&p)
		if e := substitution.Verify(r, p); e != x.e {
			t.Error("Verify", n, e, "want", x.e)
		}
		if l, e := substitution.Values(r, p); e != x.e || (len(l) > 0) != (e == api.OK) {
			t.Error("Values", n, l, e)
		}
	}
}

// P35.5
func TestSteps(t *testing.T) {
	p := plan{Pledge: []position{pos(2, 1), pos(3, 1)}, Release: []position{pos(0, 1)}}
	p.Release[0].Quantity = most
	got, e := substitution.Steps("BANKA", p)
	acc := func(n, kind int) api.Account { return api.Account{Owner: "BANKA", Kind: kind, Asset: isin(n)} }
	want := [][]api.Posting{
		{{Account: acc(2, api.Free), Delta: -10}, {Account: acc(2, api.Pledged), Delta: 10}}, {{Account: acc(3, api.Free), Delta: -10}, {Account: acc(3, api.Pledged), Delta: 10}}, {{Account: acc(0, api.Pledged), Delta: -most}, {Account: acc(0, api.Free), Delta: most}},
	}
	if !slices.EqualFunc(got, want, slices.Equal[[]api.Posting]) || e != api.OK {
		t.Error(got, e)
	}
	for n, x := range []struct {
		owner  string
		change func(p *plan)
		e      api.Errno
	}{
		{"CB", func(p *plan) { p.Pledge[0].Quantity = 0 }, api.ErrUnknown}, {"BANKA", func(p *plan) { p.Pledge[0].Quantity, p.Pledge[1].ISIN = 0, "" }, api.ErrRange}, {"BANKA", func(p *plan) { p.Pledge[1].ISIN, p.Pledge[1].Quantity = api.Cash, 0 }, api.ErrUnknown},
		{"BANKA", func(p *plan) { p.Release[0].Quantity = most + 1 }, api.ErrRange}, {"BANKA", func(p *plan) { p.Release[0].ISIN = "" }, api.ErrUnknown}, {"BANKA", func(p *plan) { *p = plan{} }, api.OK},
	} {
		q := plan{Pledge: slices.Clone(p.Pledge), Release: slices.Clone(p.Release)}
		x.change(&q)
		if got, e := substitution.Steps(x.owner, q); len(got) != 0 || e != x.e {
			t.Error("Steps", n, len(got), e)
		}
	}
}

// P35.7
func TestArguments(t *testing.T) {
	r := example()
	for _, f := range []func(request) (plan, api.Errno){substitution.Greedy, substitution.Best} {
		p, _ := f(r)
		p.Pledge[0].Value, p.Release[0].Value = 7, 7
		if e := substitution.Verify(r, p); e != api.ErrNotFound || !slices.Equal(r.Free, example().Free) || !slices.Equal(r.Pool, example().Pool) {
			t.Error("memory is shared", e)
		}
	}
}

// Example 1
func TestExample(t *testing.T) {
	r := example()
	s, _ := substitution.Shortfall(r)
	g, _ := substitution.Greedy(r)
	b, _ := substitution.Best(r)
	if s != 50 || !equal(g, plan{[]position{pos(4, 70)}, []position{pos(0, 60)}, 120}) || !equal(b, plan{[]position{pos(3, 55)}, []position{pos(0, 60)}, 105}) {
		t.Error(s, g, b)
	}
}

// P35.1: the most and the largest positions, and the first free one.
func TestBounds(t *testing.T) {
	var full request
	for n := range substitution.MaxPositions {
		full.Pool = append(full.Pool, pos(n, 1))
		full.Withdraw = append(full.Withdraw, isin(n))
		full.Free = append(full.Free, pos(1000+n, 1))
	}
	if e := substitution.Check(full); e != api.OK {
		t.Error("most positions", e)
	}
	for n, change := range []func(r *request){
		func(r *request) { r.Pool[0].Quantity, r.Free[0].Quantity = 1, 1 },
		func(r *request) { r.Pool[0].Quantity, r.Free[0].Quantity = most, most },
		func(r *request) { r.Pool[0].Value, r.Pool[1].Value, r.Free = most, 0, nil },
		func(r *request) { r.Required, r.Pool[0].Value, r.Pool[1].Value, r.Free = most, most, 0, nil },
	} {
		r := example()
		change(&r)
		if e := substitution.Check(r); e != api.OK {
			t.Error("change", n, e)
		}
	}
	r := example()
	r.Free[0].ISIN = isin(0)
	if e := substitution.Check(r); e != api.ErrDuplicate {
		t.Error("withdrawn and free", e)
	}
}

// P35.5: the steps of a plan with the least and the largest quantity.
func TestStepBounds(t *testing.T) {
	for _, q := range []int64{1, most} {
		p := plan{Pledge: []position{{isin(0), q, 1}}, Release: []position{{isin(1), q, 1}}}
		if l, e := substitution.Steps("BANKA", p); len(l) != 2 || e != api.OK {
			t.Error("Steps", q, len(l), e)
		}
	}
}
