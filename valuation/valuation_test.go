package valuation_test

import (
	"math"
	"math/big"
	"slices"
	"testing"

	"giro/api"
	"giro/date"
	"giro/fraction"
	"giro/refdata"
	"giro/valuation"
)

const (
	isin   = "US0378331005"
	other  = "XS0000000009"
	third  = "US5949181045"
	most   = int64(api.MaxAmount)
	member = "BANKA"
)

func frac(num, den int64) fraction.Fraction { f, _ := fraction.New(num, den); return f }

// exact returns quantity * price * (1 - h) as a fraction.
func exact(quantity, price int64, h fraction.Fraction) *big.Rat {
	x := new(big.Int).Mul(big.NewInt(quantity), big.NewInt(price))
	return new(big.Rat).SetFrac(x.Mul(x, big.NewInt(h.Den-h.Num)), big.NewInt(h.Den))
}

func floor(x *big.Rat) *big.Int { return new(big.Int).Div(x.Num(), x.Denom()) }

func quantities() []int64 {
	return []int64{0, 1, 2, 3, 7, 999, 1000003, 123456789012345, most - 1, most}
}

func haircuts() []fraction.Fraction {
	return []fraction.Fraction{frac(0, 1), frac(1, 1), frac(1, 2), frac(1, 3), frac(999999999, 1000000000), frac(1, 999999937), frac(2, 7)}
}

// P33.1 P33.6
func TestValue(t *testing.T) {
	for _, q := range quantities() {
		for _, p := range []int64{1, 2, 333, 20000, 999999937, valuation.MaxPrice} {
			for _, h := range haircuts() {
				want, e := floor(exact(q, p, h)), api.OK
				if want.Cmp(big.NewInt(most)) > 0 {
					want, e = new(big.Int), api.ErrOverflow
				}
				if got, gotE := valuation.Value(q, p, h); got != want.Int64() || gotE != e {
					t.Error("Value", q, p, h, got, gotE, "want", want, e)
				}
			}
		}
	}
	for _, x := range []struct {
		q, p int64
		h    fraction.Fraction
	}{{-1, 1, frac(0, 1)}, {most + 1, 1, frac(0, 1)}, {1, 0, frac(0, 1)}, {1, valuation.MaxPrice + 1, frac(0, 1)}, {1, 1, frac(-1, 2)}, {1, 1, frac(3, 2)}, {1, 1, fraction.Fraction{}}, {1, 1, fraction.Fraction{Num: 2, Den: 4}}, {math.MinInt64, 1, frac(0, 1)}} {
		if got, e := valuation.Value(x.q, x.p, x.h); got != 0 || e != api.ErrRange {
			t.Error("Value", x, got, e)
		}
	}
}

// P33.2 P33.6
func TestNeeded(t *testing.T) {
	for _, amount := range quantities() {
		for _, p := range []int64{1, 333, valuation.MaxPrice} {
			for _, h := range haircuts() {
				for _, lot := range []int64{1, 10, 7777777, most} {
					checkNeeded(t, amount, p, lot, h)
				}
			}
		}
	}
	for _, x := range []struct {
		amount, p, lot int64
		h              fraction.Fraction
		e              api.Errno
	}{{-1, 1, 1, frac(1, 1), api.ErrRange}, {most + 1, 1, 1, frac(1, 1), api.ErrRange}, {1, 0, 1, frac(1, 1), api.ErrRange}, {1, 1, 0, frac(1, 1), api.ErrRange}, {1, 1, most + 1, frac(1, 1), api.ErrRange}, {1, valuation.MaxPrice + 1, 1, frac(1, 1), api.ErrRange}, {1, 1, 1, frac(3, 2), api.ErrRange}, {1, 1, 1, frac(1, 1), api.ErrCover}, {0, 1, 5, frac(1, 1), api.OK}} {
		if got, e := valuation.Needed(x.amount, x.p, x.lot, x.h); got != 0 || e != x.e {
			t.Error("Needed", x, got, e)
		}
	}
}

// checkNeeded compares with the smallest number of lots whose exact value reaches the amount.
func checkNeeded(t *testing.T, amount, p, lot int64, h fraction.Fraction) {
	t.Helper()
	got, e := valuation.Needed(amount, p, lot, h)
	if amount > 0 && h == frac(1, 1) {
		if got != 0 || e != api.ErrCover {
			t.Error("Needed", amount, p, lot, h, got, e)
		}
		return
	}
	want, wantE := new(big.Int), api.OK
	if amount > 0 {
		lots := new(big.Rat).Quo(new(big.Rat).SetInt64(amount), exact(lot, p, h))
		n := floor(lots)
		if !lots.IsInt() {
			n.Add(n, big.NewInt(1))
		}
		want = n.Mul(n, big.NewInt(lot))
		if want.Cmp(big.NewInt(most)) > 0 {
			want, wantE = new(big.Int), api.ErrOverflow
		}
	}
	if got != want.Int64() || e != wantE {
		t.Error("Needed", amount, p, lot, h, got, e, "want", want, wantE)
	}
}

// table has the member BANKA, an issuer, and securities with prices and haircuts from day 10.
func table(t *testing.T) *refdata.Table {
	t.Helper()
	x := refdata.New()
	for _, code := range []string{member, "ISSUER"} {
		x.SetMember(5, refdata.Member{Code: code})
	}
	for n, s := range []string{isin, other, third} {
		x.SetSecurity(10, refdata.Security{ISIN: s, Issuer: "ISSUER", Lot: 10, Active: n != 2})
		x.SetPrice(10, s, int64(100*(n+1)))
	}
	x.SetHaircut(10, isin, frac(1, 4))
	x.SetHaircut(10, third, frac(1, 4))
	return x
}

func valuer(t *testing.T, x *refdata.Table, day int) *valuation.Valuer {
	t.Helper()
	v, e := valuation.New(x, day)
	if e != api.OK || v == nil || v.Day() != day {
		t.Fatal("New", e)
	}
	return v
}

// P33.3 P33.4
func TestEligible(t *testing.T) {
	x := table(t)
	issuerOnly := table(t)
	issuerOnly.SetHaircut(10, other, frac(0, 1))
	for n, y := range []struct {
		x            *refdata.Table
		day          int
		member, isin string
		e            api.Errno
	}{
		{x, 10, member, isin, api.OK}, {x, 15, member, isin, api.OK}, {x, 16, member, isin, api.ErrStale}, {x, 9, member, isin, api.ErrNotFound}, {x, 4, member, isin, api.ErrNotFound},
		{x, 10, "NOBODY", third, api.ErrNotFound}, {x, 10, member, "US5949181046", api.ErrNotFound}, {x, 10, member, api.Cash, api.ErrNotFound}, {x, 16, member, third, api.ErrIneligible}, {x, 16, "ISSUER", isin, api.ErrIneligible}, {x, 16, member, other, api.ErrIneligible}, {issuerOnly, 10, member, other, api.OK},
	} {
		v := valuer(t, y.x, y.day)
		if e := v.Eligible(y.member, y.isin); e != y.e {
			t.Error("Eligible", n, e, "want", y.e)
		}
		value, e1 := v.Value(y.member, valuation.Position{ISIN: y.isin, Quantity: -1})
		needed, e2 := v.Needed(y.member, y.isin, -1)
		want := y.e
		if want == api.OK {
			want = api.ErrRange
		}
		if value != 0 || needed != 0 || e1 != want || e2 != want {
			t.Error("Value, Needed", n, e1, e2)
		}
	}
	v := valuer(t, x, 12)
	if value, e := v.Value(member, valuation.Position{ISIN: isin, Quantity: 7}); value != 525 || e != api.OK {
		t.Error("Value", value, e)
	}
	if needed, e := v.Needed(member, isin, 751); needed != 20 || e != api.OK {
		t.Error("Needed", needed, e)
	}
	noPrice := table(t)
	noPrice.SetSecurity(10, refdata.Security{ISIN: "XS0000000017", Issuer: "ISSUER", Lot: 1, Active: true})
	noPrice.SetHaircut(10, "XS0000000017", frac(0, 1))
	if e := valuer(t, noPrice, 10).Eligible(member, "XS0000000017"); noPrice.Securities(10) != nil && len(noPrice.Securities(10)) == 3 && e != api.ErrStale {
		t.Error("no price", e)
	}
}

// P33.3: later changes of the table do not matter.
func TestCopy(t *testing.T) {
	x := table(t)
	v := valuer(t, x, 12)
	x.SetPrice(12, isin, 1)
	x.SetMember(12, refdata.Member{Code: "LATER"})
	if value, e := v.Value(member, valuation.Position{ISIN: isin, Quantity: 4}); value != 300 || e != api.OK || v.Eligible("LATER", isin) != api.ErrNotFound {
		t.Error(value, e)
	}
	for _, day := range []int{-1, date.MaxDay + 1} {
		if v, e := valuation.New(x, day); v != nil || e != api.ErrDate {
			t.Error("New", day, e)
		}
	}
	if v, e := valuation.New(nil, -1); v != nil || e != api.ErrArgument {
		t.Error("New(nil)", e)
	}
}

// P33.4
func TestMarket(t *testing.T) {
	x := table(t)
	for n, y := range []struct {
		day  int
		p    valuation.Position
		want int64
		e    api.Errno
	}{
		{12, valuation.Position{ISIN: isin, Quantity: 4}, 400, api.OK}, {12, valuation.Position{ISIN: third, Quantity: 4}, 1200, api.OK}, {12, valuation.Position{ISIN: other, Quantity: 0}, 0, api.OK},
		{9, valuation.Position{ISIN: isin, Quantity: -1}, 0, api.ErrNotFound}, {16, valuation.Position{ISIN: isin, Quantity: -1}, 0, api.ErrStale}, {12, valuation.Position{ISIN: isin, Quantity: -1}, 0, api.ErrRange}, {12, valuation.Position{ISIN: isin, Quantity: most}, 0, api.ErrOverflow},
	} {
		if got, e := valuer(t, x, y.day).Market(y.p); got != y.want || e != y.e {
			t.Error("Market", n, got, e)
		}
	}
}

// P33.5 P33.6
func TestPortfolio(t *testing.T) {
	v := valuer(t, table(t), 12)
	l := []valuation.Position{{isin, 4}, {other, 5}, {isin, 1}, {isin, -1}, {"x", 1}, {isin, most}}
	want := []valuation.Line{{l[0], 300, api.OK}, {l[1], 0, api.ErrIneligible}, {l[2], 75, api.OK}, {l[3], 0, api.ErrRange}, {l[4], 0, api.ErrNotFound}, {l[5], 0, api.ErrOverflow}}
	sum, lines, e := v.Portfolio(member, l)
	if sum != 375 || !slices.Equal(lines, want) || e != api.OK {
		t.Error(sum, lines, e)
	}
	half := valuation.Position{ISIN: isin, Quantity: most / 75 / 2}
	for n, y := range []struct {
		member string
		l      []valuation.Position
		sum    int64
		e      api.Errno
	}{
		{member, nil, 0, api.OK}, {"NOBODY", make([]valuation.Position, valuation.MaxPositions+1), 0, api.ErrLimit}, {"NOBODY", []valuation.Position{half, half, half}, 0, api.ErrNotFound}, {member, []valuation.Position{half, half, half}, 0, api.ErrOverflow},
		{member, []valuation.Position{half, half}, 999999999999900, api.OK}, {member, make([]valuation.Position, valuation.MaxPositions), 0, api.OK},
	} {
		sum, lines, e := v.Portfolio(y.member, y.l)
		if sum != y.sum || e != y.e || len(lines) != len(y.l) && e == api.OK || e != api.OK && len(lines) != 0 {
			t.Error("Portfolio", n, sum, len(lines), e)
		}
	}
	var none *valuation.Valuer
	a, e1 := none.Value("", valuation.Position{})
	b, e2 := none.Needed("", "", 0)
	c, d, e3 := none.Portfolio("", nil)
	f, e4 := none.Market(valuation.Position{})
	if a != 0 || b != 0 || c != 0 || len(d) != 0 || f != 0 || none.Day() != 0 {
		t.Error("nil valuer")
	}
	for _, e := range []api.Errno{e1, e2, e3, e4, none.Eligible("", "")} {
		if e != api.ErrArgument {
			t.Error("nil valuer", e)
		}
	}
}

// P33.6
func TestSums(t *testing.T) {
	for _, h := range haircuts() {
		for a := range int64(30) {
			for b := range int64(30) {
				x, _ := valuation.Value(a, 37, h)
				y, _ := valuation.Value(b, 37, h)
				z, _ := valuation.Value(a+b, 37, h)
				if d := z - x - y; d != 0 && d != 1 {
					t.Error("sum", a, b, h)
				}
			}
		}
	}
}

// Example 1
func TestExample(t *testing.T) {
	a, _ := valuation.Value(100, 250, frac(1, 5))
	b, _ := valuation.Value(3, 333, frac(1, 2))
	c, _ := valuation.Needed(500, 333, 1, frac(1, 2))
	d, _ := valuation.Needed(500, 333, 10, frac(1, 2))
	if a != 20000 || b != 499 || c != 4 || d != 10 {
		t.Error(a, b, c, d)
	}
}

// P33.5: values that add up to the largest amount.
func TestLargestSum(t *testing.T) {
	x := table(t)
	x.SetPrice(12, isin, 1)
	x.SetHaircut(12, isin, frac(0, 1))
	v := valuer(t, x, 12)
	l := []valuation.Position{{ISIN: isin, Quantity: most - 7}, {ISIN: isin, Quantity: 7}}
	if sum, lines, e := v.Portfolio(member, l); sum != most || len(lines) != 2 || e != api.OK {
		t.Error("Portfolio", sum, lines, e)
	}
	l[1].Quantity++
	if sum, lines, e := v.Portfolio(member, l); sum != 0 || len(lines) != 0 || e != api.ErrOverflow {
		t.Error("Portfolio", sum, lines, e)
	}
}
