package corpaction_test

import (
	"math"
	"slices"
	"strconv"
	"testing"

	"giro/account"
	"giro/api"
	"giro/corpaction"
	"giro/fraction"
)

type (
	action  = corpaction.Event
	holding = corpaction.Holding
	outcome = corpaction.Outcome
)

const (
	isin = "US0378331005"
	into = "XS0000000009"
	most = int64(api.MaxAmount)
)

func frac(num, den int64) fraction.Fraction { f, _ := fraction.New(num, den); return f }

// valid returns a valid event of a kind.
func valid(kind int) action {
	e := action{Id: "E1", Kind: kind, Issuer: "ISSUER", Asset: isin, ExDay: 10, RecordDay: 11, PayDay: 15}
	switch kind {
	case corpaction.Dividend, corpaction.Redemption:
		e.Cash = frac(1, 4)
	case corpaction.Split:
		e.Ratio, e.Price = frac(3, 2), 100
	case corpaction.Merger:
		e.Into, e.Ratio, e.Cash, e.Price = into, frac(2, 3), frac(1, 2), 100
	case corpaction.Rights:
		e.Into, e.Ratio, e.Price = into, frac(1, 4), 8
	}
	return e
}

func acc(owner string, kind int, asset string) api.Account {
	return api.Account{Owner: owner, Kind: kind, Asset: asset}
}

func held(owner string, kind int, q int64) holding { return holding{acc(owner, kind, isin), q} }

// P43.1
func TestCheck(t *testing.T) {
	ok, unknown, format, rng := api.OK, api.ErrUnknown, api.ErrFormat, api.ErrRange
	broken := fraction.Fraction{Num: 2, Den: 4}
	// The errors for Dividend, Split, Merger, Rights and Redemption.
	for n, x := range []struct {
		change func(e *action)
		wants  [5]api.Errno
	}{
		{func(e *action) {}, [5]api.Errno{}},
		{func(e *action) { e.Id, e.Kind = "", 9 }, [5]api.Errno{unknown, unknown, unknown, unknown, unknown}},
		{func(e *action) { e.Issuer = "CB" }, [5]api.Errno{unknown, unknown, unknown, unknown, unknown}},
		{func(e *action) { e.Asset, e.Into = api.Cash, "x" }, [5]api.Errno{unknown, unknown, unknown, unknown, unknown}},
		{func(e *action) { e.Into = "" }, [5]api.Errno{ok, ok, unknown, unknown, ok}},
		{func(e *action) { e.Into = "US5949181045" }, [5]api.Errno{format, format, ok, ok, format}},
		{func(e *action) { e.Into, e.Ratio = isin, broken }, [5]api.Errno{format, format, api.ErrArgument, api.ErrArgument, format}},
		{func(e *action) { e.Ratio, e.Cash = broken, broken }, [5]api.Errno{format, format, format, format, format}},
		{func(e *action) { e.Ratio = fraction.Fraction{} }, [5]api.Errno{ok, rng, rng, rng, ok}},
		{func(e *action) { e.Ratio = frac(0, 1) }, [5]api.Errno{format, rng, rng, rng, format}},
		{func(e *action) { e.Ratio = frac(-1, 2) }, [5]api.Errno{format, rng, rng, rng, format}},
		{func(e *action) { e.Cash, e.Price = fraction.Fraction{}, -1 }, [5]api.Errno{rng, rng, rng, rng, rng}},
		{func(e *action) { e.Cash = fraction.Fraction{} }, [5]api.Errno{rng, ok, rng, ok, rng}},
		{func(e *action) { e.Cash = frac(0, 1) }, [5]api.Errno{ok, format, ok, format, ok}},
		{func(e *action) { e.Cash = frac(-1, 2) }, [5]api.Errno{rng, format, rng, format, rng}},
		{func(e *action) { e.Cash = broken }, [5]api.Errno{format, format, format, format, format}},
		{func(e *action) { e.Price, e.ExDay = -1, -1 }, [5]api.Errno{rng, rng, rng, rng, rng}},
		{func(e *action) { e.Price = most + 1 }, [5]api.Errno{rng, rng, rng, rng, rng}},
		{func(e *action) { e.Price, e.ExDay = 5, -1 }, [5]api.Errno{format, api.ErrDate, api.ErrDate, api.ErrDate, format}},
		{func(e *action) { e.Price = most }, [5]api.Errno{format, ok, ok, ok, format}},
		{func(e *action) { e.ExDay = 12 }, [5]api.Errno{api.ErrDate, api.ErrDate, api.ErrDate, api.ErrDate, api.ErrDate}},
		{func(e *action) { e.PayDay = 10 }, [5]api.Errno{api.ErrDate, api.ErrDate, api.ErrDate, api.ErrDate, api.ErrDate}},
		{func(e *action) { e.PayDay = 73049 }, [5]api.Errno{api.ErrDate, api.ErrDate, api.ErrDate, api.ErrDate, api.ErrDate}},
		{func(e *action) { e.ExDay, e.RecordDay, e.PayDay = 73048, 73048, 73048 }, [5]api.Errno{}},
		{func(e *action) { e.ExDay, e.RecordDay, e.PayDay = 0, 0, 0 }, [5]api.Errno{}},
	} {
		for kind := range corpaction.NumKinds {
			e := valid(kind)
			x.change(&e)
			if code := e.Check(); code != x.wants[kind] {
				t.Error("change", n, "kind", kind, code, "want", x.wants[kind])
			}
			if x.wants[kind] == api.OK {
				continue
			}
			a, c1 := e.Outcomes([]holding{{}})
			b, c2 := e.Postings([]holding{{}})
			q, m, c3 := e.Adjust(0, 0)
			if len(a) != 0 || len(b) != 0 || q != 0 || m != 0 || c1 != x.wants[kind] || c2 != x.wants[kind] || c3 != x.wants[kind] || corpaction.New().Announce(e, 99) != x.wants[kind] {
				t.Error("results with an error", n, kind)
			}
		}
	}
	for _, kind := range []int{-1, 5, math.MinInt} {
		e := valid(0)
		e.Kind, e.Issuer = kind, ""
		if code := e.Check(); code != api.ErrKind {
			t.Error("kind", kind, code)
		}
	}
}

// P43.1 P43.7
func TestOutcomes(t *testing.T) {
	l := []holding{held("BANKB", api.Free, 5), held("BANKA", api.Pledged, 4), held("BANKA", api.Earmarked, 1)}
	for kind, want := range [][]outcome{
		{{l[0], 0, 0, 1}, {l[1], 0, 0, 1}, {l[2], 0, 0, 0}},
		{{l[0], 5, 7, 50}, {l[1], 4, 6, 0}, {l[2], 1, 1, 50}},
		{{l[0], 5, 3, 2 + 33}, {l[1], 4, 2, 2 + 66}, {l[2], 1, 0, 66}},
		{{l[0], 0, 1, 2}, {l[1], 0, 1, 0}, {l[2], 0, 0, 2}},
		{{l[0], 5, 0, 1}, {l[1], 4, 0, 1}, {l[2], 1, 0, 0}},
	} {
		got, e := valid(kind).Outcomes(l)
		if !slices.Equal(got, want) || e != api.OK {
			t.Error("kind", kind, got, e, "want", want)
		}
	}
	split := valid(corpaction.Split)
	split.Ratio = frac(1, 1)
	if got, _ := split.Outcomes(l); got[0].Taken != 5 || got[0].Given != 5 || got[0].Cash != 0 {
		t.Error("1/1", got)
	}
}

// P43.1
func TestHoldingErrors(t *testing.T) {
	good := held("BANKA", api.Free, 5)
	for n, x := range []struct {
		l []holding
		e api.Errno
	}{
		{nil, api.OK}, {make([]holding, corpaction.MaxHoldings+1), api.ErrLimit}, {make([]holding, corpaction.MaxHoldings), api.ErrUnknown}, {[]holding{held("CB", 9, 0)}, api.ErrUnknown}, {[]holding{{acc("BANKA", api.Reserved, ""), 0}}, api.ErrKind}, {[]holding{held("BANKA", api.Issued, 0)}, api.ErrKind}, {[]holding{{acc("BANKA", -1, isin), 1}}, api.ErrKind},
		{[]holding{{acc("BANKA", 0, into), 0}}, api.ErrMismatch}, {[]holding{held("BANKA", 0, 0), {}}, api.ErrRange}, {[]holding{held("BANKA", 0, most+1)}, api.ErrRange}, {[]holding{good, good, {}}, api.ErrDuplicate}, {[]holding{good, held("BANKA", api.Pledged, 5)}, api.OK},
		{[]holding{held("BANKA", 0, most)}, api.ErrOverflow}, {[]holding{held("BANKA", 0, most/2), held("BANKB", 0, most/2)}, api.ErrOverflow},
	} {
		a, e1 := valid(corpaction.Split).Outcomes(x.l)
		b, e2 := valid(corpaction.Split).Postings(x.l)
		if e1 != x.e || e2 != x.e || x.e != api.OK && len(a)+len(b) != 0 {
			t.Error("list", n, e1, e2, "want", x.e)
		}
	}
	rich := valid(corpaction.Dividend)
	rich.Cash = frac(2, 1)
	if _, e := rich.Outcomes([]holding{held("BANKA", 0, most)}); e != api.ErrOverflow {
		t.Error("cash", e)
	}
	if _, e := rich.Outcomes([]holding{held("BANKA", 0, most/4), held("BANKB", 0, most/4+1)}); e != api.ErrOverflow {
		t.Error("sum of the cash", e)
	}
	both := valid(corpaction.Merger)
	both.Cash, both.Price, both.Ratio = frac(1, 1), most, frac(1, 2)
	if _, e := both.Outcomes([]holding{held("BANKA", 0, most/2+1)}); e != api.ErrOverflow {
		t.Error("cash and fraction", e)
	}
}

// P43.1
func TestPostings(t *testing.T) {
	post := func(a api.Account, d int64) api.Posting { return api.Posting{Account: a, Delta: d} }
	cash := func(owner string) api.Account { return acc(owner, api.Free, api.Cash) }
	pledged, own := acc("BANKA", api.Pledged, isin), acc("ISSUER", api.Free, isin)
	l := []holding{{pledged, 5}, {own, 5}}
	for kind, want := range [][]api.Posting{
		{post(cash("ISSUER"), -1), post(cash("BANKA"), 1)},
		{post(pledged, -5), post(acc("ISSUER", api.Issued, isin), 5), post(acc("ISSUER", api.Issued, isin), -7), post(pledged, 7), post(cash("ISSUER"), -50), post(cash("BANKA"), 50), post(own, -5), post(acc("ISSUER", api.Issued, isin), 5), post(acc("ISSUER", api.Issued, isin), -7), post(own, 7)},
		{post(pledged, -5), post(acc("ISSUER", api.Issued, isin), 5), post(acc("ISSUER", api.Issued, into), -3), post(acc("BANKA", api.Free, into), 3), post(cash("ISSUER"), -35), post(cash("BANKA"), 35), post(own, -5), post(acc("ISSUER", api.Issued, isin), 5), post(acc("ISSUER", api.Issued, into), -3), post(acc("ISSUER", api.Free, into), 3)},
		{post(acc("ISSUER", api.Issued, into), -1), post(acc("BANKA", api.Free, into), 1), post(cash("ISSUER"), -2), post(cash("BANKA"), 2), post(acc("ISSUER", api.Issued, into), -1), post(acc("ISSUER", api.Free, into), 1)},
		{post(pledged, -5), post(acc("ISSUER", api.Issued, isin), 5), post(cash("ISSUER"), -1), post(cash("BANKA"), 1), post(own, -5), post(acc("ISSUER", api.Issued, isin), 5)},
	} {
		got, e := valid(kind).Postings(l)
		if !slices.Equal(got, want) || e != api.OK {
			t.Error("kind", kind, got, e)
		}
	}
	// Movements of nothing are left out.
	if got, e := valid(corpaction.Rights).Postings([]holding{held("BANKA", 0, 4)}); len(got) != 2 || e != api.OK {
		t.Error(got, e)
	}
}

// P43.2
func TestAdjust(t *testing.T) {
	split, merger := valid(corpaction.Split), valid(corpaction.Merger)
	rich := merger
	rich.Cash = frac(1000000000, 1)
	for n, x := range []struct {
		e      action
		q, m   int64
		wq, wm int64
		code   api.Errno
	}{
		{split, 5, 100, 7, 100, api.OK}, {merger, 5, 100, 3, 98, api.OK}, {merger, 5, 1, 3, 0, api.OK}, {merger, 1, 0, 0, 0, api.OK}, {rich, most, most, 666666666666666, 0, api.OK}, {rich, 5, most, 3, most - 5000000000, api.OK},
		{valid(corpaction.Dividend), 5, 100, 5, 100, api.OK}, {valid(corpaction.Rights), 5, 100, 5, 100, api.OK}, {valid(corpaction.Redemption), 5, 100, 5, 100, api.OK},
		{split, 0, -1, 0, 0, api.ErrRange}, {split, most + 1, 0, 0, 0, api.ErrRange}, {split, 1, -1, 0, 0, api.ErrRange}, {valid(0), 1, most + 1, 0, 0, api.ErrRange}, {split, most, 5, 0, 0, api.ErrOverflow}, {split, 1, most, 1, most, api.OK},
	} {
		if q, m, code := x.e.Adjust(x.q, x.m); q != x.wq || m != x.wm || code != x.code {
			t.Error("Adjust", n, q, m, code)
		}
	}
}

// P43.3 P43.4 P43.5
func TestRegister(t *testing.T) {
	r := corpaction.New()
	want := func(what string, got, e api.Errno) {
		t.Helper()
		if got != e {
			t.Error(what, got, "want", e)
		}
	}
	refused := func(what string, e api.Errno, f func() api.Errno) {
		t.Helper()
		before := r.Clone()
		want(what, f(), e)
		if !r.Equal(before) {
			t.Error(what, "changes the register")
		}
	}
	a, b := valid(corpaction.Split), valid(corpaction.Dividend)
	b.Id = "D1"
	want("Announce", r.Announce(a, 10), api.OK)
	refused("again", api.ErrDuplicate, func() api.Errno { return r.Announce(a, 99) })
	refused("stale", api.ErrStale, func() api.Errno { return r.Announce(b, 11) })
	want("Announce", r.Announce(b, math.MinInt), api.OK)
	l := []holding{held("BANKA", 0, 5)}
	pay := func(id string, day int) func() api.Errno {
		return func() api.Errno {
			p, e := r.Pay(id, day)
			if len(p) != 0 {
				t.Error("postings with an error")
			}
			return e
		}
	}
	refused("withdraw", api.ErrNotFound, func() api.Errno { return r.Withdraw("x") })
	refused("record", api.ErrNotFound, func() api.Errno { return r.Record("x", 0, nil) })
	refused("pay", api.ErrNotFound, pay("x", 0))
	refused("pay", api.ErrState, pay("E1", 0))
	refused("early", api.ErrDate, func() api.Errno { return r.Record("E1", 10, []holding{{}}) })
	refused("list", api.ErrUnknown, func() api.Errno { return r.Record("E1", 11, []holding{{}}) })
	if _, ok := r.Holdings("E1"); ok || !slices.Equal(r.ToRecord(11), []string{"D1", "E1"}) || len(r.ToRecord(10)) != 0 || len(r.ToPay(99)) != 0 {
		t.Error("lists", r.ToRecord(11))
	}
	want("Record", r.Record("E1", 11, l), api.OK)
	l[0].Quantity = 9
	if x, ok := r.Holdings("E1"); !slices.Equal(x, []holding{held("BANKA", 0, 5)}) || !ok {
		t.Error("Holdings", x, ok)
	} else {
		x[0].Quantity = 7
	}
	refused("again", api.ErrState, func() api.Errno { return r.Record("E1", 0, nil) })
	refused("recorded", api.ErrState, func() api.Errno { return r.Withdraw("E1") })
	refused("early", api.ErrDate, pay("E1", 14))
	if !slices.Equal(r.ToPay(15), []string{"E1"}) || len(r.ToPay(14)) != 0 || !slices.Equal(r.ToRecord(99), []string{"D1"}) {
		t.Error("lists")
	}
	got, e := r.Pay("E1", 15)
	postings, _ := a.Postings([]holding{held("BANKA", 0, 5)})
	if !slices.Equal(got, postings) || e != api.OK {
		t.Error("Pay", got, e)
	}
	refused("paid", api.ErrState, pay("E1", 0))
	want("Withdraw", r.Withdraw("D1"), api.OK)
	refused("withdrawn", api.ErrState, func() api.Errno { return r.Withdraw("D1") })
	refused("withdrawn", api.ErrState, func() api.Errno { return r.Record("D1", 99, nil) })
	for id, state := range map[string]int{"E1": corpaction.Paid, "D1": corpaction.Withdrawn} {
		if x, s, ok := r.Get(id); x.Id != id || s != state || !ok {
			t.Error("Get", id, s)
		}
	}
	if x, s, ok := r.Get("x"); x != (action{}) || s != 0 || ok {
		t.Error("Get", x)
	}
	_, withdrawn := r.Holdings("D1")
	_, paid := r.Holdings("E1")
	if withdrawn || !paid || !slices.Equal(r.Events(), []string{"D1", "E1"}) || len(r.ToRecord(99))+len(r.ToPay(99)) != 0 {
		t.Error("in the end")
	}
}

// P43.3 P43.6
func TestLimitCloneNil(t *testing.T) {
	r := corpaction.New()
	for n := range corpaction.MaxEvents {
		e := valid(0)
		e.Id = strconv.Itoa(n)
		if code := r.Announce(e, 5); code != api.OK {
			t.Fatal(code)
		}
	}
	if code := r.Announce(valid(0), 5); code != api.ErrLimit {
		t.Error("limit", code)
	}
	build := func() *corpaction.Register {
		r := corpaction.New()
		r.Announce(valid(0), 5)
		r.Record("E1", 11, []holding{held("BANKA", 0, 5)})
		return r
	}
	x := build()
	for name, change := range map[string]func(r *corpaction.Register){"pay": func(r *corpaction.Register) { r.Pay("E1", 99) }, "announce": func(r *corpaction.Register) { e := valid(1); e.Id = "X"; r.Announce(e, 5) }} {
		c := x.Clone()
		if !c.Equal(x) {
			t.Error("clone is not equal")
		}
		change(c)
		if c.Equal(x) || !x.Equal(build()) {
			t.Error(name)
		}
	}
	other := corpaction.New()
	other.Announce(valid(0), 5)
	other.Record("E1", 11, []holding{held("BANKA", 0, 6)})
	if other.Equal(x) {
		t.Error("other holdings are equal")
	}
	var none *corpaction.Register
	p, e := none.Pay("", 0)
	_, _, ok := none.Get("")
	_, ok2 := none.Holdings("")
	if none.Announce(action{}, 0) != api.ErrArgument || none.Withdraw("") != api.ErrArgument || none.Record("", 0, nil) != api.ErrArgument || len(p) != 0 || e != api.ErrArgument || ok || ok2 || len(none.ToRecord(0))+len(none.ToPay(0))+len(none.Events()) != 0 || none.Clone() != nil || !none.Equal(nil) || none.Equal(x) || x.Equal(nil) {
		t.Error("nil register")
	}
}

// P43.7 T13: postings are accepted, and distributions add up to what the issuer pays.
func TestConservation(t *testing.T) {
	for kind := range corpaction.NumKinds {
		a := account.New()
		a.Issue("CB", api.Cash, "ISSUER", 100000)
		var l []holding
		for n := range 9 {
			owner := "BANK" + strconv.Itoa(n)
			a.Issue("ISSUER", isin, owner, int64(7*n+2))
			a.Pledge(owner, isin, int64(n+1))
			l = append(l, held(owner, api.Free, int64(6*n+1)), held(owner, api.Pledged, int64(n+1)))
		}
		p, e := valid(kind).Postings(l)
		if e != api.OK || a.Post(p) != api.OK {
			t.Error("kind", kind, e)
		}
		outcomes, _ := valid(kind).Outcomes(l)
		paid := int64(100000) - a.Balance(acc("ISSUER", api.Free, api.Cash))
		for _, o := range outcomes {
			paid -= o.Cash
		}
		if paid != 0 {
			t.Error("kind", kind, "cash", paid)
		}
	}
}

// Example 1
func TestExample(t *testing.T) {
	a, _ := valid(corpaction.Split).Outcomes([]holding{held("BANKA", 0, 5)})
	b, _ := valid(corpaction.Dividend).Outcomes([]holding{held("BANKA", 0, 5)})
	if a[0].Taken != 5 || a[0].Given != 7 || a[0].Cash != 50 || b[0].Cash != 1 {
		t.Error(a, b)
	}
}

// P43.1: outcomes and sums up to the largest amount.
func TestLargestOutcomes(t *testing.T) {
	split, dividend := valid(corpaction.Split), valid(corpaction.Dividend)
	split.Ratio, split.Price = frac(1, 1), 0
	dividend.Cash = frac(1, 1)
	for _, e := range []action{split, dividend} {
		for _, l := range [][]holding{
			{held("BANKA", api.Free, most)},
			{held("BANKA", api.Free, most-5), held("BANKB", api.Free, 5)},
		} {
			if o, code := e.Outcomes(l); len(o) != len(l) || code != api.OK {
				t.Error("largest", e.Kind, len(l), code)
			}
		}
		l := []holding{held("BANKA", api.Free, most), held("BANKB", api.Free, 1)}
		if o, code := e.Outcomes(l); len(o) != 0 || code != api.ErrOverflow {
			t.Error("too large", e.Kind, code)
		}
	}
}
