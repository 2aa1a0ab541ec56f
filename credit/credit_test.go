package credit_test

import (
	"slices"
	"strconv"
	"testing"

	"giro/account"
	"giro/api"
	"giro/collateral"
	"giro/credit"
	"giro/ident"
)

type position = collateral.Position

const most = int64(api.MaxAmount)

func isin(n int) string {
	x, _ := ident.MakeISIN("XX", strconv.Itoa(1000+n))
	return x
}

var x, y, z = isin(0), isin(1), isin(2)

// prices values units by asset; those without a price have an error.
type prices map[string]int64

func (p prices) Value(_, asset string, quantity int64) (int64, api.Errno) {
	if p[asset] == 0 {
		return 0, api.ErrStale
	}
	return min(quantity, most/p[asset]) * p[asset], api.OK
}

func nine() prices { return prices{x: 9, y: 9, z: 9} }

func want(t *testing.T, what string, got, e api.Errno) {
	t.Helper()
	if got != e {
		t.Errorf("%s: error %d, want %d", what, got, e)
	}
}

func acc(owner string, kind int, asset string) api.Account {
	return api.Account{Owner: owner, Kind: kind, Asset: asset}
}

// world is a desk with its accounts: BANKA holds 100 units of x, y and z each, and BANKB 1000 in cash.
func world(t *testing.T, v collateral.Valuer) (*credit.Desk, *account.Accounts) {
	t.Helper()
	a := account.New()
	for _, asset := range []string{z, y, x} {
		want(t, "issue", a.Issue("ISSUER", asset, "BANKA", 100), api.OK)
	}
	want(t, "cash", a.Issue("CB", api.Cash, "BANKB", 1000), api.OK)
	d, e := credit.New(a, v)
	if e != api.OK || d == nil {
		t.Fatal("New", e)
	}
	return d, a
}

// refused checks that a call is refused and changes neither the desk nor the accounts.
func refused(t *testing.T, d *credit.Desk, a *account.Accounts, what string, e api.Errno, f func() api.Errno) {
	t.Helper()
	desk, accounts := d.Clone(a), a.Clone()
	want(t, what, f(), e)
	if !d.Equal(desk) || !a.Equal(accounts) {
		t.Error(what, "changes something")
	}
}

// state checks the pool, the line, and that the pledged accounts agree with the pool.
func state(t *testing.T, d *credit.Desk, a *account.Accounts, member string, line int64, l ...position) {
	t.Helper()
	if !slices.Equal(d.Positions(member), l) || d.Line(member) != line || a.Line(member) != line {
		t.Errorf("%s: positions %v, line %d, want %v, %d", member, d.Positions(member), d.Line(member), l, line)
	}
	for _, p := range l {
		if a.Balance(acc(member, api.Pledged, p.Asset)) != p.Quantity {
			t.Error("pledged account of", p.Asset)
		}
	}
	if slices.Contains(d.Members(), member) != (len(l) > 0) {
		t.Error("Members", d.Members())
	}
}

// P36.1
func TestNew(t *testing.T) {
	a := account.New()
	if d, e := credit.New(nil, nine()); d != nil || e != api.ErrArgument {
		t.Error("New", e)
	}
	if d, e := credit.New(a, nil); d != nil || e != api.ErrArgument {
		t.Error("New", e)
	}
	d, a := world(t, nine())
	state(t, d, a, "BANKA", 0)
	d.Pledge("BANKA", y, 2)
	d.Pledge("BANKA", x, 3)
	a.Transfer(api.Cash, "BANKA", "BANKB", 20)
	state(t, d, a, "BANKA", 45, position{Asset: x, Quantity: 3}, position{Asset: y, Quantity: 2})
	if d.Value("BANKA") != 45 || d.Usage("BANKA") != 20 || d.Excess("BANKA") != 25 || d.Value("BANKB") != 0 || d.Excess("BANKB") != 0 || len(d.Calls()) != 0 {
		t.Error("Value", d.Value("BANKA"), d.Usage("BANKA"))
	}
}

// P36.2
func TestPledgeRelease(t *testing.T) {
	d, a := world(t, prices{x: 9, y: 9})
	pledge := func(m, s string, q int64) func() api.Errno { return func() api.Errno { return d.Pledge(m, s, q) } }
	release := func(m, s string, q int64) func() api.Errno { return func() api.Errno { return d.Release(m, s, q) } }
	refused(t, d, a, "member", api.ErrUnknown, pledge("CB", "", 0))
	refused(t, d, a, "asset", api.ErrUnknown, pledge("BANKA", api.Cash, 0))
	refused(t, d, a, "range", api.ErrRange, pledge("BANKA", x, 0))
	refused(t, d, a, "valuer", api.ErrStale, pledge("BANKA", z, 1))
	refused(t, d, a, "funds", api.ErrFunds, pledge("BANKA", x, 101))
	refused(t, d, a, "no pool", api.ErrNotFound, release("BANKA", x, 0))
	want(t, "pledge", d.Pledge("BANKA", x, 10), api.OK)
	state(t, d, a, "BANKA", 90, position{Asset: x, Quantity: 10})
	a.Transfer(api.Cash, "BANKA", "BANKB", 46)
	refused(t, d, a, "position", api.ErrNotFound, release("BANKA", y, 0))
	refused(t, d, a, "more", api.ErrFunds, release("BANKA", x, 11))
	refused(t, d, a, "cover", api.ErrCover, release("BANKA", x, 5))
	want(t, "release", d.Release("BANKA", x, 4), api.OK)
	state(t, d, a, "BANKA", 54, position{Asset: x, Quantity: 6})
	a.Transfer(api.Cash, "BANKB", "BANKA", 46)
	want(t, "all", d.Release("BANKA", x, 6), api.OK)
	state(t, d, a, "BANKA", 0)
	if a.Balance(acc("BANKA", api.Free, x)) != 100 {
		t.Error("free", a.Balance(acc("BANKA", api.Free, x)))
	}
	for n := range credit.MaxMembers {
		m := "M" + strconv.Itoa(1000+n)
		a.Issue("ISSUER", x, m, 2)
		want(t, "many", d.Pledge(m, x, 1), api.OK)
	}
	refused(t, d, a, "limit", api.ErrLimit, pledge("BANKA", "", 0))
	want(t, "known", d.Pledge("M1000", x, 1), api.OK)
}

// P36.3
func TestAuto(t *testing.T) {
	d, a := world(t, nine())
	refused(t, d, a, "member", api.ErrUnknown, func() api.Errno { return d.SetAuto("x", true) })
	want(t, "on", d.SetAuto("BANKA", true), api.OK)
	if !d.Auto("BANKA") || d.Auto("BANKB") {
		t.Error("Auto")
	}
	want(t, "off", d.SetAuto("BANKA", false), api.OK)
	want(t, "off again", d.SetAuto("BANKB", false), api.OK)
	if d.Auto("BANKA") {
		t.Error("Auto")
	}
	other, _ := credit.New(a, nine())
	if !d.Equal(other) {
		t.Error("a switch that is off differs from none")
	}
}

// P36.4
func TestRaise(t *testing.T) {
	d, a := world(t, prices{x: 9, z: 4})
	raise := func(m string, amount int64, blocked ...string) func() api.Errno {
		return func() api.Errno {
			l, e := d.Raise(m, amount, blocked)
			if e != api.OK && len(l) != 0 {
				t.Error("positions with an error")
			}
			return e
		}
	}
	refused(t, d, a, "range", api.ErrRange, raise("BANKA", 0))
	refused(t, d, a, "range", api.ErrRange, raise("BANKA", most+1))
	refused(t, d, a, "off", api.ErrState, raise("BANKA", 1))
	d.SetAuto("BANKA", true)
	d.SetAuto("BANKB", true)
	refused(t, d, a, "cover", api.ErrCover, raise("BANKA", 1301))
	refused(t, d, a, "blocked", api.ErrCover, raise("BANKA", 401, x))
	refused(t, d, a, "nothing", api.ErrCover, raise("BANKB", 1))
	sequence := a.Sequence()
	l, e := d.Raise("BANKA", 50, nil)
	if !slices.Equal(l, []position{{Asset: x, Quantity: 6}}) || e != api.OK || a.Sequence() != sequence+1 {
		t.Error("Raise", l, e)
	}
	state(t, d, a, "BANKA", 54, position{Asset: x, Quantity: 6})
	// y has no price and is skipped; x does not suffice.
	l, e = d.Raise("BANKA", 850, nil)
	if !slices.Equal(l, []position{{Asset: x, Quantity: 94}, {Asset: z, Quantity: 1}}) || e != api.OK || a.Sequence() != sequence+2 {
		t.Error("Raise", l, e)
	}
	state(t, d, a, "BANKA", 904, position{Asset: x, Quantity: 100}, position{Asset: z, Quantity: 1})
	l, e = d.Raise("BANKA", 396, nil)
	if !slices.Equal(l, []position{{Asset: z, Quantity: 99}}) || e != api.OK || d.Line("BANKA") != 1300 {
		t.Error("everything", l, e)
	}
}

// P36.4: the limit of members.
func TestRaiseLimit(t *testing.T) {
	d, a := world(t, nine())
	d.SetAuto("BANKA", true)
	for n := range credit.MaxMembers {
		m := "M" + strconv.Itoa(1000+n)
		a.Issue("ISSUER", x, m, 2)
		d.Pledge(m, x, 1)
	}
	refused(t, d, a, "limit", api.ErrLimit, func() api.Errno { _, e := d.Raise("BANKA", most, nil); return e })
	d.SetAuto("M1000", true)
	if l, e := d.Raise("M1000", 9, nil); !slices.Equal(l, []position{{Asset: x, Quantity: 1}}) || e != api.OK {
		t.Error("known", l, e)
	}
}

// P36.5
func TestRevalue(t *testing.T) {
	d, a := world(t, nine())
	d.Pledge("BANKA", x, 10)
	d.Pledge("BANKB", x, 0)
	a.Issue("ISSUER", y, "BANKC", 5)
	d.Pledge("BANKC", y, 5)
	a.Transfer(api.Cash, "BANKA", "BANKB", 50)
	a.Transfer(api.Cash, "BANKC", "BANKB", 40)
	refused(t, d, a, "nil", api.ErrArgument, func() api.Errno { _, e := d.Revalue(nil); return e })
	refused(t, d, a, "error", api.ErrStale, func() api.Errno { l, e := d.Revalue(prices{x: 1}); _ = l; return e })
	l, e := d.Revalue(prices{x: 4, y: 7})
	calls := []credit.Call{{Member: "BANKA", Amount: 10}, {Member: "BANKC", Amount: 5}}
	if !slices.Equal(l, calls) || e != api.OK || !slices.Equal(d.Calls(), calls) {
		t.Error("Revalue", l, e)
	}
	state(t, d, a, "BANKA", 50, position{Asset: x, Quantity: 10})
	state(t, d, a, "BANKC", 40, position{Asset: y, Quantity: 5})
	want(t, "new valuer", d.Pledge("BANKA", z, 1), api.ErrStale)
	a.Transfer(api.Cash, "BANKB", "BANKA", 30)
	l, e = d.Refresh()
	if !slices.Equal(l, calls[1:]) || e != api.OK {
		t.Error("Refresh", l, e)
	}
	state(t, d, a, "BANKA", 40, position{Asset: x, Quantity: 10})
	// A line without a pool is adapted to the usage.
	a.SetLine("BANKB", 500)
	a.Transfer(api.Cash, "BANKB", "BANKC", 1100)
	d.Refresh()
	state(t, d, a, "BANKB", 40)
}

// P36.5
func TestSync(t *testing.T) {
	d, a := world(t, nine())
	d.Pledge("BANKA", x, 10)
	d.Pledge("BANKA", y, 10)
	a.Issue("ISSUER", y, "BANKC", 5)
	d.Pledge("BANKC", y, 5)
	a.Transfer(api.Cash, "BANKA", "BANKB", 50)
	a.Unpledge("BANKA", x, 10)
	a.Unpledge("BANKA", y, 5)
	a.Pledge("BANKA", z, 5)
	a.Unpledge("BANKC", y, 5)
	l, e := d.Sync()
	if !slices.Equal(l, []credit.Call{{Member: "BANKA", Amount: 5}}) || e != api.OK {
		t.Error("Sync", l, e)
	}
	state(t, d, a, "BANKA", 50, position{Asset: y, Quantity: 5})
	state(t, d, a, "BANKC", 0)
	a.Pledge("BANKA", y, 20)
	if l, e := d.Sync(); len(l) != 0 || e != api.OK {
		t.Error("Sync", l, e)
	}
	state(t, d, a, "BANKA", 225, position{Asset: y, Quantity: 25})
}

// changing is a valuer whose prices a test changes.
type changing struct{ p *prices }

func (c changing) Value(owner, asset string, quantity int64) (int64, api.Errno) {
	return c.p.Value(owner, asset, quantity)
}

// P36.5 P36.2: errors of Sync, and what follows from them.
func TestSyncErrors(t *testing.T) {
	p := nine()
	d, a := world(t, changing{&p})
	d.Pledge("BANKA", x, 10)
	d.Pledge("BANKA", y, 10)
	a.Issue("ISSUER", z, "BANKC", 5)
	d.Pledge("BANKC", z, 5)
	p = prices{x: most / 15, y: most / 15}
	a.Unpledge("BANKA", y, 1)
	sync := func() api.Errno {
		l, e := d.Sync()
		if len(l) != 0 {
			t.Error("calls with an error")
		}
		return e
	}
	refused(t, d, a, "valuer first", api.ErrStale, sync)
	p[z] = 1
	refused(t, d, a, "overflow", api.ErrOverflow, sync)
	p = nine()
	a.Unpledge("BANKA", x, 5)
	refused(t, d, a, "release of what is not pledged", api.ErrFunds, func() api.Errno { return d.Release("BANKA", x, 6) })
	refused(t, d, a, "seize", api.ErrFunds, func() api.Errno { _, e := d.Seize("BANKA", "CB", 90); return e })
	p[z] = 0
	a.Unpledge("BANKC", z, 5)
	want(t, "a position of nothing has no value", sync(), api.OK)
	state(t, d, a, "BANKA", 126, position{Asset: x, Quantity: 5}, position{Asset: y, Quantity: 9})
}

// P36.6
func TestUnwind(t *testing.T) {
	d, a := world(t, nine())
	refused(t, d, a, "no pool", api.ErrNotFound, func() api.Errno { _, e := d.Unwind("BANKA"); return e })
	d.SetAuto("BANKA", true)
	d.Pledge("BANKA", x, 3)
	d.Raise("BANKA", 45, nil)
	d.Raise("BANKA", 90, []string{x})
	d.Raise("BANKA", 18, nil)
	state(t, d, a, "BANKA", 180, position{Asset: x, Quantity: 10}, position{Asset: y, Quantity: 10})
	a.Transfer(api.Cash, "BANKA", "BANKB", 100)
	sequence := a.Sequence()
	l, e := d.Unwind("BANKA")
	if !slices.Equal(l, []position{{Asset: x, Quantity: 2}, {Asset: y, Quantity: 6}}) || e != api.OK || a.Sequence() != sequence+1 {
		t.Error("Unwind", l, e)
	}
	state(t, d, a, "BANKA", 108, position{Asset: x, Quantity: 8}, position{Asset: y, Quantity: 4})
	if l, e := d.Unwind("BANKA"); len(l) != 0 || e != api.OK || a.Sequence() != sequence+1 {
		t.Error("nothing", l, e)
	}
	// What the pool has lost otherwise is not released.
	a.Transfer(api.Cash, "BANKB", "BANKA", 100)
	d.Release("BANKA", x, 5)
	l, e = d.Unwind("BANKA")
	if !slices.Equal(l, []position{{Asset: y, Quantity: 4}, {Asset: x, Quantity: 3}}) || e != api.OK {
		t.Error("Unwind", l, e)
	}
	state(t, d, a, "BANKA", 0)
	d.Pledge("BANKA", x, 3)
	if l, e := d.Unwind("BANKA"); len(l) != 0 || e != api.OK {
		t.Error("a pledge that is not automatic is released", l, e)
	}
}

// P36.6: nothing is released behind a Sync with an error.
func TestUnwindErrors(t *testing.T) {
	d, a := world(t, nine())
	d.SetAuto("BANKA", true)
	d.Raise("BANKA", 90, nil)
	a.Unpledge("BANKA", x, 5)
	refused(t, d, a, "post", api.ErrFunds, func() api.Errno {
		l, e := d.Unwind("BANKA")
		if len(l) != 0 {
			t.Error("positions with an error")
		}
		return e
	})
}

// P36.7
func TestSeize(t *testing.T) {
	p := prices{x: 3, y: 8, z: 2}
	d, a := world(t, changing{&p})
	seize := func(m, to string, amount int64) func() api.Errno {
		return func() api.Errno { _, e := d.Seize(m, to, amount); return e }
	}
	refused(t, d, a, "no pool", api.ErrNotFound, seize("BANKA", "", 0))
	d.Pledge("BANKA", x, 9)
	d.Pledge("BANKA", y, 2)
	d.Pledge("BANKA", z, 10)
	refused(t, d, a, "to", api.ErrUnknown, seize("BANKA", "", 0))
	refused(t, d, a, "self", api.ErrArgument, seize("BANKA", "BANKA", 0))
	refused(t, d, a, "range", api.ErrRange, seize("BANKA", "CB", 0))
	refused(t, d, a, "range", api.ErrRange, seize("BANKA", "CB", most+1))
	a.Transfer(api.Cash, "BANKA", "BANKB", 35)
	sequence := a.Sequence()
	l, e := d.Seize("BANKA", "CB", 35)
	if !slices.Equal(l, []position{{Asset: x, Quantity: 9}, {Asset: y, Quantity: 1}}) || e != api.OK || a.Sequence() != sequence+1 {
		t.Error("Seize", l, e)
	}
	state(t, d, a, "BANKA", 35, position{Asset: y, Quantity: 1}, position{Asset: z, Quantity: 10})
	if a.Balance(acc("CB", api.Free, x)) != 9 || a.Balance(acc("CB", api.Free, y)) != 1 {
		t.Error("balances of the central bank")
	}
	p = prices{x: 3, z: 2}
	l, e = d.Seize("BANKA", "BANKB", 3)
	if !slices.Equal(l, []position{{Asset: z, Quantity: 2}}) || e != api.OK {
		t.Error("a position without a value is skipped", l, e)
	}
	p = prices{y: 8, z: 2}
	l, e = d.Seize("BANKA", "BANKB", 1000)
	if !slices.Equal(l, []position{{Asset: y, Quantity: 1}, {Asset: z, Quantity: 8}}) || e != api.OK {
		t.Error("less than the amount", l, e)
	}
	state(t, d, a, "BANKA", 35)
}

// P36.8
func TestCloneEqual(t *testing.T) {
	build := func() (*credit.Desk, *account.Accounts) {
		d, a := world(t, nine())
		d.SetAuto("BANKA", true)
		d.Pledge("BANKA", z, 1)
		d.Raise("BANKA", 10, nil)
		d.Raise("BANKA", 10, nil)
		return d, a
	}
	d, a := build()
	for name, change := range map[string]func(d *credit.Desk){
		"pledge": func(d *credit.Desk) { d.Pledge("BANKA", y, 1) }, "auto": func(d *credit.Desk) { d.SetAuto("BANKB", true) }, "raise": func(d *credit.Desk) { d.Raise("BANKA", 1, nil) }, "unwind": func(d *credit.Desk) { d.Unwind("BANKA") },
		"revalue": func(d *credit.Desk) { d.Revalue(prices{x: 8, z: 9}) }, "same pool": func(d *credit.Desk) {
			d.Release("BANKA", x, 1)
			d.Pledge("BANKA", x, 1)
			d.Raise("BANKA", 9, nil)
			d.Release("BANKA", x, 1)
		},
	} {
		b := a.Clone()
		c := d.Clone(b)
		again, _ := build()
		if !c.Equal(d) || !d.Equal(again) {
			t.Fatal("clone is not equal")
		}
		before := a.Clone()
		change(c)
		if c.Equal(d) || d.Equal(c) || !d.Equal(again) || !a.Equal(before) {
			t.Error(name)
		}
	}
	var none *credit.Desk
	l1, e1 := none.Raise("", 0, nil)
	l2, e2 := none.Revalue(nil)
	l3, e3 := none.Refresh()
	l4, e4 := none.Sync()
	l5, e5 := none.Unwind("")
	l6, e6 := none.Seize("", "", 0)
	if len(l1)+len(l2)+len(l3)+len(l4)+len(l5)+len(l6) != 0 {
		t.Error("nil desk")
	}
	for _, e := range []api.Errno{e1, e2, e3, e4, e5, e6, none.Pledge("", "", 0), none.Release("", "", 0), none.SetAuto("", true)} {
		want(t, "nil", e, api.ErrArgument)
	}
	if none.Auto("") || none.Value("") != 0 || none.Line("") != 0 || none.Usage("") != 0 || none.Excess("") != 0 || len(none.Positions("")) != 0 || len(none.Members()) != 0 || len(none.Calls()) != 0 || none.Clone(a) != nil || d.Clone(nil) != nil || !none.Equal(nil) || none.Equal(d) || d.Equal(nil) {
		t.Error("nil desk")
	}
}

// P36.9 T11: as long as prices do not change, nobody uses more credit than its pool is worth.
func TestInvariant(t *testing.T) {
	d, a := world(t, nine())
	members := []string{"BANKA", "BANKB", "BANKC"}
	for _, m := range members {
		a.Transfer(x, "BANKA", m, 30)
		d.SetAuto(m, true)
	}
	seed := uint64(11)
	next := func(n int) int { seed = seed*6364136223846793005 + 1442695040888963407; return int(seed>>33) % n }
	for n := range 600 {
		m, s, q := members[next(3)], []string{x, y}[next(2)], int64(next(12))
		before, old := d.Clone(a), a.Clone()
		var e api.Errno
		switch next(6) {
		case 0:
			e = d.Pledge(m, s, q)
		case 1:
			e = d.Release(m, s, q)
		case 2:
			line := d.Line(m)
			_, e = d.Raise(m, q*7, nil)
			if e == api.OK && d.Line(m) < line+q*7 {
				t.Error("the line was not raised")
			}
		case 3:
			_, e = d.Unwind(m)
		case 4:
			_, e = d.Refresh()
		default:
			a.Transfer(api.Cash, m, members[next(3)], q*5)
			continue
		}
		if e != api.OK && (!d.Equal(before) || !a.Equal(old)) {
			t.Fatal("step", n, "a refused call changes something")
		}
		for _, m := range members {
			if d.Usage(m) > d.Value(m) || d.Value(m) > d.Line(m) {
				t.Fatal("step", n, m, d.Usage(m), d.Value(m), d.Line(m))
			}
			for _, p := range d.Positions(m) {
				if a.Balance(acc(m, api.Pledged, p.Asset)) != p.Quantity {
					t.Fatal("step", n, "pledged account")
				}
			}
		}
	}
}

// Example 1
func TestExample(t *testing.T) {
	d, a := world(t, nine())
	a.Transfer(x, "BANKA", "BANKB", 90)
	d.SetAuto("BANKA", true)
	l, _ := d.Raise("BANKA", 50, []string{y, z})
	if !slices.Equal(l, []position{{Asset: x, Quantity: 6}}) || d.Line("BANKA") != 54 {
		t.Error(l, d.Line("BANKA"))
	}
	a.Transfer(api.Cash, "BANKA", "BANKB", 50)
	calls, _ := d.Revalue(prices{x: 8})
	if !slices.Equal(calls, []credit.Call{{Member: "BANKA", Amount: 2}}) || d.Line("BANKA") != 50 {
		t.Error(calls, d.Line("BANKA"))
	}
}

// P36.5 P36.7: a margin call of one minor unit, and a seizure for which one is missing.
func TestLeast(t *testing.T) {
	for used, calls := range map[int64][]credit.Call{80: nil, 81: {{Member: "BANKA", Amount: 1}}} {
		d, a := world(t, nine())
		want(t, "pledge", d.Pledge("BANKA", x, 10), api.OK)
		want(t, "use", a.Transfer(api.Cash, "BANKA", "BANKB", used), api.OK)
		l, e := d.Revalue(prices{x: 8, y: 9, z: 9})
		if !slices.Equal(l, calls) || !slices.Equal(d.Calls(), calls) || e != api.OK {
			t.Error("calls", used, l, d.Calls(), e)
		}
	}
	d, _ := world(t, nine())
	want(t, "pledge", d.Pledge("BANKA", x, 10), api.OK)
	want(t, "pledge", d.Pledge("BANKA", y, 10), api.OK)
	l, e := d.Seize("BANKA", "BANKB", 91)
	if !slices.Equal(l, []position{{Asset: x, Quantity: 10}, {Asset: y, Quantity: 1}}) || e != api.OK {
		t.Error("seized", l, e)
	}
}
