package collateral_test

import (
	"math"
	"slices"
	"strconv"
	"testing"

	"giro/api"
	"giro/collateral"
	"giro/ident"
)

const most = int64(api.MaxAmount)

// isin returns one of many ISINs, in increasing order.
func isin(n int) string {
	s := strconv.Itoa(1000 + n)
	x, _ := ident.MakeISIN("XX", s)
	return x
}

var x, y, z = isin(0), isin(1), isin(2)

// unit values every unit alike; the securities in bad have errors.
type unit struct {
	value int64
	bad   map[string]api.Errno
}

func (u unit) Value(owner, asset string, quantity int64) (int64, api.Errno) {
	if owner != "BANKA" {
		return 0, api.ErrUnknown
	}
	if e := u.bad[asset]; e != api.OK {
		return 0, e
	}
	return min(quantity, most/u.value) * u.value, api.OK
}

// steps values whole lots of 10 units only.
type steps struct{}

func (steps) Value(_, _ string, quantity int64) (int64, api.Errno) { return quantity / 10 * 10, api.OK }

func pool(t *testing.T, v collateral.Valuer) *collateral.Pool {
	t.Helper()
	p, e := collateral.New("BANKA", v)
	if e != api.OK || p == nil {
		t.Fatal("New", e)
	}
	return p
}

func want(t *testing.T, what string, got, e api.Errno) {
	t.Helper()
	if got != e {
		t.Errorf("%s: error %d, want %d", what, got, e)
	}
}

// refused checks that an operation is refused and changes nothing.
func refused(t *testing.T, p *collateral.Pool, what string, e api.Errno, f func() api.Errno) {
	t.Helper()
	before := p.Clone()
	want(t, what, f(), e)
	if !p.Equal(before) {
		t.Error(what, "changes the pool")
	}
}

// P34.1
func TestNew(t *testing.T) {
	if p, e := collateral.New("CB", nil); p != nil || e != api.ErrUnknown {
		t.Error("New", e)
	}
	if p, e := collateral.New("BANKA", nil); p != nil || e != api.ErrArgument {
		t.Error("New", e)
	}
	p := pool(t, unit{value: 9})
	if p.Owner() != "BANKA" || p.Required() != 0 || p.Value() != 0 || p.Excess() != 0 || len(p.Positions()) != 0 || p.Quantity(x) != 0 {
		t.Error("new pool")
	}
	p.Pledge(y, 3)
	p.Pledge(x, 2)
	p.Pledge(y, 1)
	p.Require(40)
	if !slices.Equal(p.Positions(), []collateral.Position{{x, 2}, {y, 4}}) || p.Quantity(y) != 4 || p.Quantity(z) != 0 || p.Value() != 54 || p.Required() != 40 || p.Excess() != 14 {
		t.Error(p.Positions(), p.Value())
	}
}

// P34.2
func TestPledge(t *testing.T) {
	p := pool(t, unit{9, map[string]api.Errno{z: api.ErrStale}})
	pledge := func(asset string, q int64) func() api.Errno { return func() api.Errno { return p.Pledge(asset, q) } }
	want(t, "x", p.Pledge(x, 5), api.OK)
	refused(t, p, "cash", api.ErrUnknown, pledge(api.Cash, 0))
	refused(t, p, "zero", api.ErrRange, pledge(z, 0))
	refused(t, p, "most", api.ErrRange, pledge(z, most+1))
	refused(t, p, "smallest", api.ErrRange, pledge(x, math.MinInt64))
	refused(t, p, "position", api.ErrOverflow, pledge(x, most-4))
	refused(t, p, "valuer", api.ErrStale, pledge(z, 1))
	refused(t, p, "value", api.ErrOverflow, pledge(y, most))
	many := pool(t, unit{value: 1})
	for n := range collateral.MaxPositions {
		want(t, "many", many.Pledge(isin(n), 1), api.OK)
	}
	refused(t, many, "limit", api.ErrLimit, func() api.Errno { return many.Pledge(isin(collateral.MaxPositions), 1) })
	want(t, "known", many.Pledge(isin(5), 1), api.OK)
}

// P34.3
func TestRelease(t *testing.T) {
	p := pool(t, unit{value: 9})
	release := func(asset string, q int64) func() api.Errno { return func() api.Errno { return p.Release(asset, q) } }
	p.Pledge(x, 10)
	p.Pledge(y, 10)
	refused(t, p, "none", api.ErrNotFound, release(z, 0))
	refused(t, p, "zero", api.ErrRange, release(x, 0))
	refused(t, p, "range", api.ErrRange, release(x, most+1))
	refused(t, p, "more", api.ErrFunds, release(x, 11))
	want(t, "Require", p.Require(100), api.OK)
	refused(t, p, "cover", api.ErrCover, release(x, 9))
	if p.MaxRelease(x) != 8 || p.MaxRelease(z) != 0 {
		t.Error("MaxRelease", p.MaxRelease(x))
	}
	want(t, "largest", p.Release(x, 8), api.OK)
	if p.MaxRelease(x) != 0 || p.MaxRelease(y) != 0 {
		t.Error("MaxRelease", p.MaxRelease(x))
	}
	p.Require(0)
	if p.MaxRelease(y) != 10 {
		t.Error("MaxRelease", p.MaxRelease(y))
	}
	want(t, "all", p.Release(x, 2), api.OK)
	if !slices.Equal(p.Positions(), []collateral.Position{{y, 10}}) {
		t.Error(p.Positions())
	}
	// Values may increase in steps.
	s := pool(t, steps{})
	s.Pledge(x, 59)
	s.Require(30)
	if s.MaxRelease(x) != 29 {
		t.Error("MaxRelease", s.MaxRelease(x))
	}
	// An error of the valuer stops a release, unless nothing is left.
	bad := map[string]api.Errno{}
	b := pool(t, unit{9, bad})
	b.Pledge(x, 5)
	bad[x] = api.ErrStale
	refused(t, b, "valuer", api.ErrStale, func() api.Errno { return b.Release(x, 1) })
	want(t, "nothing left", b.Release(x, 5), api.OK)
	huge := pool(t, unit{value: 1})
	huge.Pledge(x, most)
	if huge.MaxRelease(x) != most {
		t.Error("MaxRelease", huge.MaxRelease(x))
	}
}

// growing is a valuer whose values the test raises, to reach sums that are too large.
type growing struct{ factor *int64 }

func (g growing) Value(_, _ string, quantity int64) (int64, api.Errno) {
	return min(quantity*(*g.factor), most), api.OK
}

// P34.3 P34.5: the sum of the values is checked before the cover.
func TestOverflowingValue(t *testing.T) {
	factor := int64(1)
	p := pool(t, growing{&factor})
	p.Pledge(x, most/2)
	p.Pledge(y, most/2)
	factor = 3
	refused(t, p, "Release", api.ErrOverflow, func() api.Errno { return p.Release(x, 1) })
	refused(t, p, "Substitute", api.ErrOverflow, func() api.Errno {
		return p.Substitute(collateral.Position{Asset: x, Quantity: 1}, collateral.Position{Asset: z, Quantity: 1})
	})
	refused(t, p, "Revalue", api.ErrOverflow, func() api.Errno { return p.Revalue(growing{&factor}) })
}

// P34.4
func TestRequireRevalue(t *testing.T) {
	p := pool(t, unit{value: 9})
	p.Pledge(x, 2)
	p.Pledge(y, 3)
	require := func(n int64) func() api.Errno { return func() api.Errno { return p.Require(n) } }
	refused(t, p, "negative", api.ErrRange, require(-1))
	refused(t, p, "range", api.ErrRange, require(most+1))
	refused(t, p, "cover", api.ErrCover, require(46))
	want(t, "all", p.Require(45), api.OK)
	refused(t, p, "nil", api.ErrArgument, func() api.Errno { return p.Revalue(nil) })
	refused(t, p, "valuer", api.ErrStale, func() api.Errno {
		return p.Revalue(unit{7, map[string]api.Errno{y: api.ErrIneligible, x: api.ErrStale}})
	})
	want(t, "Revalue", p.Revalue(unit{value: 7}), api.OK)
	if p.Value() != 35 || p.Required() != 45 || p.Excess() != -10 {
		t.Error("after Revalue", p.Value(), p.Required())
	}
	refused(t, p, "below", api.ErrCover, func() api.Errno { return p.Release(x, 1) })
	refused(t, p, "below", api.ErrCover, require(36))
	want(t, "pledge", p.Pledge(x, 1), api.OK)
	if p.Value() != 42 || p.MaxRelease(x) != 0 {
		t.Error("the new valuer is not used", p.Value())
	}
}

// P34.5
func TestSubstitute(t *testing.T) {
	p := pool(t, unit{9, map[string]api.Errno{z: api.ErrStale}})
	p.Pledge(x, 10)
	p.Pledge(isin(5), 1)
	p.Require(90)
	sub := func(out string, a int64, in string, b int64) func() api.Errno {
		return func() api.Errno {
			return p.Substitute(collateral.Position{Asset: out, Quantity: a}, collateral.Position{Asset: in, Quantity: b})
		}
	}
	refused(t, p, "out", api.ErrNotFound, sub(y, 0, "", 0))
	refused(t, p, "out range", api.ErrRange, sub(x, 0, "", 0))
	refused(t, p, "out range", api.ErrRange, sub(x, most+1, "", 0))
	refused(t, p, "out funds", api.ErrFunds, sub(x, 11, "", 0))
	refused(t, p, "in", api.ErrUnknown, sub(x, 5, "", 0))
	refused(t, p, "same", api.ErrDuplicate, sub(x, 5, x, 0))
	refused(t, p, "in range", api.ErrRange, sub(x, 5, y, 0))
	refused(t, p, "in range", api.ErrRange, sub(x, 5, y, most+1))
	refused(t, p, "in overflow", api.ErrOverflow, sub(x, 5, isin(5), most))
	refused(t, p, "valuer", api.ErrStale, sub(x, 5, z, 5))
	refused(t, p, "value", api.ErrOverflow, sub(x, 5, y, most))
	refused(t, p, "cover", api.ErrCover, sub(x, 5, y, 3))
	want(t, "part", sub(x, 5, y, 4)(), api.OK)
	if !slices.Equal(p.Positions(), []collateral.Position{{x, 5}, {y, 4}, {isin(5), 1}}) || p.Value() != 90 {
		t.Error(p.Positions(), p.Value())
	}
	want(t, "whole", sub(x, 5, y, 5)(), api.OK)
	if !slices.Equal(p.Positions(), []collateral.Position{{y, 9}, {isin(5), 1}}) {
		t.Error(p.Positions())
	}
	many := pool(t, unit{value: 1})
	for n := range collateral.MaxPositions {
		many.Pledge(isin(n), 2)
	}
	refused(t, many, "limit", api.ErrLimit, func() api.Errno {
		return many.Substitute(collateral.Position{Asset: x, Quantity: 1}, collateral.Position{Asset: isin(2000), Quantity: 1})
	})
	want(t, "room for one", many.Substitute(collateral.Position{Asset: x, Quantity: 2}, collateral.Position{Asset: isin(2000), Quantity: 1}), api.OK)
	// The valuer's error for what is left comes first, and is not asked for where nothing is left.
	bad := map[string]api.Errno{}
	b := pool(t, unit{9, bad})
	b.Pledge(x, 5)
	bad[x], bad[y] = api.ErrStale, api.ErrIneligible
	refused(t, b, "left", api.ErrStale, func() api.Errno {
		return b.Substitute(collateral.Position{Asset: x, Quantity: 1}, collateral.Position{Asset: y, Quantity: 1})
	})
	refused(t, b, "new", api.ErrIneligible, func() api.Errno {
		return b.Substitute(collateral.Position{Asset: x, Quantity: 5}, collateral.Position{Asset: y, Quantity: 1})
	})
}

// P34.6 P34.7
func TestCloneEqual(t *testing.T) {
	build := func() *collateral.Pool {
		p := pool(t, unit{value: 9})
		p.Pledge(x, 10)
		p.Pledge(y, 5)
		p.Require(20)
		return p
	}
	p := build()
	for name, change := range map[string]func(p *collateral.Pool){
		"pledge": func(p *collateral.Pool) { p.Pledge(z, 1) }, "release": func(p *collateral.Pool) { p.Release(x, 1) }, "require": func(p *collateral.Pool) { p.Require(21) }, "value": func(p *collateral.Pool) { p.Revalue(unit{value: 8}) },
		"swap": func(p *collateral.Pool) {
			p.Substitute(collateral.Position{Asset: x, Quantity: 1}, collateral.Position{Asset: y, Quantity: 1})
		},
	} {
		c := p.Clone()
		if !c.Equal(p) || !p.Equal(build()) {
			t.Fatal("clone is not equal")
		}
		change(c)
		if c.Equal(p) || p.Equal(c) || !p.Equal(build()) {
			t.Error(name)
		}
	}
	q := pool(t, unit{value: 9})
	q.Pledge(y, 5)
	q.Pledge(x, 4)
	q.Pledge(z, 7)
	q.Pledge(x, 6)
	q.Release(z, 7)
	q.Require(20)
	if !q.Equal(p) {
		t.Error("the order of pledges matters")
	}
	o, _ := collateral.New("BANKB", unit{value: 9})
	if o.Equal(pool(t, unit{value: 9})) {
		t.Error("another owner is equal")
	}
	var none *collateral.Pool
	for _, e := range []api.Errno{none.Pledge("", 0), none.Release("", 0), none.Require(-1), none.Revalue(nil), none.Substitute(collateral.Position{}, collateral.Position{})} {
		want(t, "nil", e, api.ErrArgument)
	}
	if none.Owner() != "" || none.Required() != 0 || none.Value() != 0 || none.Excess() != 0 || len(none.Positions()) != 0 || none.Quantity(x) != 0 || none.MaxRelease(x) != 0 || none.Clone() != nil || !none.Equal(nil) || none.Equal(p) || p.Equal(nil) {
		t.Error("nil pool")
	}
}

// Example 1
func TestExample(t *testing.T) {
	p := pool(t, unit{value: 9})
	p.Pledge(x, 10)
	e := p.Require(50)
	if p.Value() != 90 || e != api.OK || p.MaxRelease(x) != 4 {
		t.Error(p.Value(), e, p.MaxRelease(x))
	}
	want(t, "Release", p.Release(x, 5), api.ErrCover)
}

// P34.2 P34.4: pledges without value, and the largest value.
func TestBounds(t *testing.T) {
	p := pool(t, steps{})
	want(t, "pledge without value", p.Pledge(x, 5), api.OK)
	if p.Value() != 0 || p.Quantity(x) != 5 {
		t.Error("pool", p.Value(), p.Quantity(x))
	}
	full := pool(t, unit{value: 1})
	want(t, "pledge", full.Pledge(x, most), api.OK)
	want(t, "require", full.Require(most), api.OK)
	want(t, "revalue", full.Revalue(unit{value: 1}), api.OK)
	if full.Value() != most || full.Required() != most || full.Excess() != 0 {
		t.Error("full", full.Value(), full.Required())
	}
	want(t, "require more", full.Require(most+1), api.ErrRange)
}
