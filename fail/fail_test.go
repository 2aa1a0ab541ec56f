package fail_test

import (
	"math/big"
	"slices"
	"strconv"
	"testing"

	"giro/api"
	"giro/calendar"
	"giro/fail"
	"giro/fraction"
)

const (
	isin   = "US0378331005"
	most   = int64(api.MaxAmount)
	monday = 9816
)

func frac(num, den int64) fraction.Fraction { f, _ := fraction.New(num, den); return f }

func late() fail.Case {
	return fail.Case{Ref: "T1", Deliverer: "BANKA", Receiver: "BANKB", Asset: isin, Quantity: 10, Value: 3600000, SettleDay: monday}
}

func rates() fail.Rates { return fail.Rates{Securities: frac(1, 100), Cash: frac(1, 50)} }

func week(t *testing.T) *calendar.Calendar {
	t.Helper()
	c, e := calendar.New([]int{5, 6}, []int{monday + 2})
	if e != api.OK {
		t.Fatal(e)
	}
	return c
}

// P46.1
func TestCheck(t *testing.T) {
	cal := week(t)
	for n, x := range []struct {
		change func(c *fail.Case)
		e      api.Errno
	}{
		{func(c *fail.Case) {}, api.OK}, {func(c *fail.Case) { c.Ref, c.Fault = "", 9 }, api.ErrUnknown}, {func(c *fail.Case) { c.Deliverer = "CB" }, api.ErrUnknown}, {func(c *fail.Case) { c.Receiver = "" }, api.ErrUnknown}, {func(c *fail.Case) { c.Receiver, c.Asset = "BANKA", "" }, api.ErrArgument},
		{func(c *fail.Case) { c.Asset, c.Quantity = api.Cash, 0 }, api.ErrUnknown}, {func(c *fail.Case) { c.Quantity, c.SettleDay = 0, -1 }, api.ErrRange}, {func(c *fail.Case) { c.Quantity = most + 1 }, api.ErrRange}, {func(c *fail.Case) { c.Value, c.SettleDay = -1, -1 }, api.ErrRange}, {func(c *fail.Case) { c.Value = most + 1 }, api.ErrRange}, {func(c *fail.Case) { c.Value = most }, api.OK}, {func(c *fail.Case) { c.Value = 0 }, api.OK},
		{func(c *fail.Case) { c.SettleDay, c.Fault = -1, 9 }, api.ErrDate}, {func(c *fail.Case) { c.SettleDay = 73049 }, api.ErrDate}, {func(c *fail.Case) { c.Fault = 2 }, api.ErrKind}, {func(c *fail.Case) { c.Fault = -1 }, api.ErrKind}, {func(c *fail.Case) { c.Fault = 1 }, api.OK},
	} {
		c := late()
		x.change(&c)
		if e := c.Check(); e != x.e {
			t.Error("Check", n, e, "want", x.e)
		}
		if x.e == api.OK {
			continue
		}
		a, e1 := c.Overdue(nil, -1)
		b, e2 := c.Penalty(fail.Rates{})
		d, e3 := c.BuyInDay(nil, 0)
		f, e4 := c.Compensation(-1, -1)
		g, e5 := fail.Daily([]fail.Case{c}, rates(), cal, monday)
		if a != 0 || b != (fail.Charge{}) || d != 0 || f != (fail.Charge{}) || len(g) != 0 {
			t.Error("results with an error", n)
		}
		for _, e := range []api.Errno{e1, e2, e3, e4, e5} {
			if e != x.e {
				t.Error("error", n, e, x.e)
			}
		}
	}
}

// P46.1 P46.7
func TestOverdue(t *testing.T) {
	cal := week(t)
	last := 0
	for day := monday - 3; day < monday+20; day++ {
		want := 0
		for d := monday + 1; d <= day; d++ {
			if cal.IsBusiness(d) {
				want++
			}
		}
		got, e := late().Overdue(cal, day)
		if got != want || e != api.OK || got-last > 1 {
			t.Error("Overdue", day, got, e)
		}
		last = got
	}
	if n, e := late().Overdue(nil, -1); n != 0 || e != api.ErrArgument {
		t.Error("nil", n, e)
	}
	for _, day := range []int{-1, 73049} {
		if n, e := late().Overdue(cal, day); n != 0 || e != api.ErrRange {
			t.Error("day", n, e)
		}
	}
}

// P46.2 P46.7
func TestPenalty(t *testing.T) {
	for _, value := range []int64{0, 1, 180, 360, 540, 18000, 123456789, most} {
		for _, rate := range []fraction.Fraction{frac(0, 1), frac(1, 1), frac(1, 100), frac(1, 999999937), frac(999999936, 999999937)} {
			for fault := range 2 {
				c := late()
				c.Value, c.Fault = value, fault
				r := fail.Rates{Securities: frac(1, 7), Cash: frac(1, 9)}
				from, to := "BANKB", "BANKA"
				if fault == fail.LacksSecurities {
					r.Securities = rate
					from, to = to, from
				} else {
					r.Cash = rate
				}
				num := new(big.Int).Mul(big.NewInt(value), big.NewInt(rate.Num))
				den := new(big.Int).Mul(big.NewInt(rate.Den), big.NewInt(360))
				q, rest := num.QuoRem(num, den, new(big.Int))
				if c := rest.Lsh(rest, 1).Cmp(den); c > 0 || c == 0 && q.Bit(0) == 1 {
					q.Add(q, big.NewInt(1))
				}
				got, e := c.Penalty(r)
				if got != (fail.Charge{Ref: "T1", From: from, To: to, Amount: q.Int64()}) || e != api.OK {
					t.Error("Penalty", value, rate, fault, got, e)
				}
			}
		}
	}
	for n, r := range []fail.Rates{{}, {Securities: frac(1, 2)}, {Cash: frac(1, 2)}, {Securities: frac(3, 2), Cash: frac(1, 2)}, {Securities: frac(1, 2), Cash: frac(-1, 2)}, {Securities: frac(1, 2), Cash: fraction.Fraction{Num: 2, Den: 4}}} {
		if c, e := late().Penalty(r); c != (fail.Charge{}) || e != api.ErrRange {
			t.Error("rates", n, c, e)
		}
	}
}

// P46.3
func TestDaily(t *testing.T) {
	cal := week(t)
	early, cash, small, old := late(), late(), late(), late()
	early.Ref, early.SettleDay = "T0", monday+1
	cash.Ref, cash.Fault, cash.Value = "T2", fail.LacksCash, 36000
	small.Ref, small.Value = "T3", 1
	old.Ref, old.SettleDay = "T4", 5
	l := []fail.Case{early, late(), cash, small, old}
	charge := func(ref, from, to string, x int64) fail.Charge {
		return fail.Charge{Ref: ref, From: from, To: to, Amount: x}
	}
	want := []fail.Charge{charge("T1", "BANKA", "BANKB", 100), charge("T2", "BANKB", "BANKA", 2), charge("T4", "BANKA", "BANKB", 100)}
	for day, w := range map[int][]fail.Charge{monday: want[2:], monday + 1: want, monday + 2: nil, monday + 5: nil, 6: want[2:], 5: nil} {
		if got, e := fail.Daily(l, rates(), cal, day); !slices.Equal(got, w) || e != api.OK {
			t.Error("Daily", day, got, e)
		}
	}
	if got, e := fail.Daily(l, rates(), cal, monday+3); len(got) != 4 || e != api.OK {
		t.Error("later", got, e)
	}
	many := slices.Repeat([]fail.Case{{}}, 4097)
	for n, x := range []struct {
		l   []fail.Case
		r   fail.Rates
		cal *calendar.Calendar
		day int
		e   api.Errno
	}{
		{many, fail.Rates{}, nil, -1, api.ErrArgument}, {many, fail.Rates{}, cal, -1, api.ErrRange}, {many, fail.Rates{}, cal, monday, api.ErrRange}, {many, rates(), cal, 73049, api.ErrRange}, {many, rates(), cal, monday, api.ErrLimit}, {many[1:], rates(), cal, monday, api.ErrUnknown}, {[]fail.Case{late(), late(), {}}, rates(), cal, monday + 2, api.ErrDuplicate}, {nil, rates(), cal, monday, api.OK},
	} {
		if got, e := fail.Daily(x.l, x.r, x.cal, x.day); len(got) != 0 || e != x.e {
			t.Error("error", n, e, "want", x.e)
		}
	}
}

// P46.4 P46.7
func TestNet(t *testing.T) {
	charge := func(from, to string, x int64) fail.Charge { return fail.Charge{From: from, To: to, Amount: x} }
	got, e := fail.Net([]fail.Charge{charge("BANKC", "BANKA", 5), charge("BANKA", "BANKB", 7), charge("BANKB", "BANKA", 2), charge("BANKE", "BANKD", 0)})
	if !slices.Equal(got, []fail.Flow{{Member: "BANKA"}, {Member: "BANKB", Net: 5}, {Member: "BANKC", Net: -5}, {Member: "BANKD"}, {Member: "BANKE"}}) || e != api.OK {
		t.Error(got, e)
	}
	many := slices.Repeat([]fail.Charge{charge("BANKA", "BANKB", most)}, 4096)
	for n, x := range []struct {
		l []fail.Charge
		e api.Errno
	}{
		{append(slices.Clone(many), fail.Charge{}), api.ErrLimit}, {many, api.ErrOverflow}, {append(slices.Clone(many[1:]), fail.Charge{}), api.ErrUnknown}, {[]fail.Charge{charge("BANKA", "CB", -1)}, api.ErrUnknown}, {[]fail.Charge{charge("BANKA", "BANKA", -1), {}}, api.ErrArgument}, {[]fail.Charge{charge("BANKA", "BANKB", -1)}, api.ErrRange}, {[]fail.Charge{charge("BANKA", "BANKB", most+1)}, api.ErrRange}, {[]fail.Charge{charge("BANKA", "BANKB", most), charge("BANKB", "BANKA", 1)}, api.ErrOverflow}, {nil, api.OK},
	} {
		if got, e := fail.Net(x.l); len(got) != 0 || e != x.e {
			t.Error("error", n, e, "want", x.e)
		}
	}
	if got, e := fail.Net([]fail.Charge{charge("BANKA", "BANKB", most)}); len(got) != 2 || e != api.OK {
		t.Error("most", got, e)
	}
}

// P46.5 P46.7
func TestBuyInDay(t *testing.T) {
	cal := week(t)
	for n := 1; n <= 100; n++ {
		day, e := late().BuyInDay(cal, n)
		on, _ := late().Overdue(cal, day)
		before, _ := late().Overdue(cal, day-1)
		if e != api.OK || on != n || before != n-1 {
			t.Error("BuyInDay", n, day, e)
		}
	}
	end := late()
	end.SettleDay = 73048
	for n, x := range []struct {
		c   fail.Case
		cal *calendar.Calendar
		n   int
		e   api.Errno
	}{{late(), nil, 0, api.ErrArgument}, {late(), cal, 0, api.ErrRange}, {late(), cal, 101, api.ErrRange}, {end, cal, 1, api.ErrDate}} {
		if day, e := x.c.BuyInDay(x.cal, x.n); day != 0 || e != x.e {
			t.Error("error", n, day, e)
		}
	}
}

// P46.6
func TestCompensation(t *testing.T) {
	for n, x := range []struct {
		fault         int
		amount, price int64
		want          int64
		e             api.Errno
	}{
		{0, 1000, 120, 200, api.OK}, {0, 1300, 120, 0, api.OK}, {0, 1200, 120, 0, api.OK}, {1, 1000, 120, 0, api.OK}, {1, 1300, 120, 100, api.OK}, {1, 1300, 0, 1300, api.OK}, {0, 0, 1000000000, 10000000000, api.OK},
		{0, -1, -1, 0, api.ErrRange}, {0, most + 1, 0, 0, api.ErrRange}, {0, 0, -1, 0, api.ErrRange}, {0, 0, 1000000001, 0, api.ErrRange},
	} {
		c := late()
		c.Fault = x.fault
		want := fail.Charge{Ref: "T1", From: []string{"BANKA", "BANKB"}[x.fault], To: []string{"BANKB", "BANKA"}[x.fault], Amount: x.want}
		if x.e != api.OK {
			want = fail.Charge{}
		}
		if got, e := c.Compensation(x.amount, x.price); got != want || e != x.e {
			t.Error("Compensation", n, got, e)
		}
	}
	c := late()
	c.Quantity = most / 3
	if x, e := c.Compensation(0, 3); x.Amount != most/3*3 || e != api.OK {
		t.Error(x, e)
	}
	if x, e := c.Compensation(0, 4); x != (fail.Charge{}) || e != api.ErrOverflow {
		t.Error(x, e)
	}
	if strconv.Itoa(fail.LacksCash) != "1" {
		t.Error("constants")
	}
}

// Example 1
func TestExample(t *testing.T) {
	p, _ := late().Penalty(rates())
	c, _ := late().Compensation(1000, 120)
	if p.Amount != 100 || p.From != "BANKA" || p.To != "BANKB" || c.Amount != 200 {
		t.Error(p, c)
	}
}

// P46.1 P46.2 P46.3: the least and the greatest values that are possible.
func TestBounds(t *testing.T) {
	for n, change := range []func(c *fail.Case){
		func(c *fail.Case) { c.Quantity = 1 },
		func(c *fail.Case) { c.Quantity = api.MaxAmount },
		func(c *fail.Case) { c.Value = 0 },
		func(c *fail.Case) { c.Value = api.MaxAmount },
		func(c *fail.Case) { c.SettleDay = 0 },
		func(c *fail.Case) { c.SettleDay = 73048 },
	} {
		c := late()
		change(&c)
		if e := c.Check(); e != api.OK {
			t.Error("change", n, e)
		}
	}
	c := late()
	if n, e := c.Overdue(week(t), c.SettleDay); n != 0 || e != api.OK {
		t.Error("on the settlement day", n, e)
	}
	c.Quantity = api.MaxAmount
	if x, e := c.Compensation(0, 1); e != api.OK || c.Fault == fail.LacksSecurities && x.Amount != api.MaxAmount {
		t.Error("largest value", x, e)
	}
	if _, e := c.Compensation(0, 2); e != api.ErrOverflow {
		t.Error("too large", e)
	}
	// A penalty of one minor unit is charged.
	c = late()
	c.Value, c.Fault, c.SettleDay = 36000, fail.LacksSecurities, 2
	l, e := fail.Daily([]fail.Case{c}, rates(), week(t), 3)
	if len(l) != 1 || l[0].Amount != 1 || e != api.OK {
		t.Error("least penalty", l, e)
	}
}
