package entitlement_test

import (
	"math/big"
	"slices"
	"strconv"
	"testing"

	"giro/amount"
	"giro/api"
	"giro/entitlement"
	"giro/fraction"
	"giro/history"
)

type (
	holder = entitlement.Holder
	terms  = entitlement.Terms
	result = entitlement.Entitlement
)

const (
	isin = "US0378331005"
	most = int64(api.MaxAmount)
)

func frac(num, den int64) fraction.Fraction { f, _ := fraction.New(num, den); return f }

func acc(owner string, kind int, asset string) api.Account {
	return api.Account{Owner: owner, Kind: kind, Asset: asset}
}

func move(from, to api.Account, x int64) history.Part {
	return history.Part{Ref: "X", Postings: []api.Posting{{Account: from, Delta: -x}, {Account: to, Delta: x}}}
}

// P42.1
func TestHolders(t *testing.T) {
	h := history.New()
	issued := acc("ISSUER", api.Issued, isin)
	for n, parts := range [][]history.Part{
		{move(issued, acc("BANKB", api.Free, isin), 50), move(issued, acc("BANKA", api.Free, isin), 9)},
		{move(acc("BANKB", api.Free, isin), acc("BANKB", api.Earmarked, isin), 20), move(acc("BANKB", api.Free, isin), acc("BANKB", api.Pledged, isin), 5), move(acc("CB", api.Issued, api.Cash), acc("BANKC", api.Free, api.Cash), 7)},
		{move(acc("BANKA", api.Free, isin), acc("BANKD", api.Reserved, isin), 9)},
	} {
		if e := h.Append(history.Bundle{Sequence: n + 1, Parts: parts}); e != api.OK {
			t.Fatal(e)
		}
	}
	for sequence, want := range [][]holder{nil, {{"BANKA", 9}, {"BANKB", 50}}, {{"BANKA", 9}, {"BANKB", 50}}, {{"BANKB", 50}}} {
		if l, e := entitlement.Holders(h, isin, sequence); !slices.Equal(l, want) || e != api.OK {
			t.Error("Holders", sequence, l, e)
		}
	}
	for n, x := range []struct {
		h        *history.History
		asset    string
		sequence int
		e        api.Errno
	}{{nil, "", -1, api.ErrArgument}, {h, api.Cash, -1, api.ErrUnknown}, {h, isin, -1, api.ErrRange}, {h, isin, 4, api.ErrRange}} {
		if l, e := entitlement.Holders(x.h, x.asset, x.sequence); len(l) != 0 || e != x.e {
			t.Error("error", n, l, e)
		}
	}
	big := history.New()
	big.Append(history.Bundle{Sequence: 1, Parts: []history.Part{move(acc("A", api.Issued, isin), acc("BANKA", api.Free, isin), most), move(acc("B", api.Issued, isin), acc("BANKA", api.Pledged, isin), 1)}})
	if l, e := entitlement.Holders(big, isin, 1); len(l) != 0 || e != api.ErrOverflow {
		t.Error("overflow", l, e)
	}
	many := history.New()
	var parts []history.Part
	for n := range entitlement.MaxHolders + 1 {
		parts = append(parts, move(issued, acc("M"+strconv.Itoa(n), api.Free, isin), 1))
	}
	many.Append(history.Bundle{Sequence: 1, Parts: parts[1:]})
	many.Append(history.Bundle{Sequence: 2, Parts: parts[:1]})
	if l, e := entitlement.Holders(many, isin, 1); len(l) != entitlement.MaxHolders || e != api.OK {
		t.Error("most holders", len(l), e)
	}
	if l, e := entitlement.Holders(many, isin, 2); len(l) != 0 || e != api.ErrLimit {
		t.Error("too many holders", len(l), e)
	}
}

func quantities() []int64 { return []int64{1, 2, 3, 10, 999, 1000001, most / 3, most} }

// P42.2 P42.6
func TestCompute(t *testing.T) {
	for mode := range amount.NumModes {
		for _, ratio := range []fraction.Fraction{frac(0, 1), frac(1, 4), frac(1, 2), frac(2, 3), frac(1, 1), frac(999999999, 1000000000)} {
			for _, price := range []int64{0, 1, 100, most} {
				for _, q := range quantities() {
					l, e := entitlement.Compute([]holder{{"BANKA", q}}, terms{ratio, mode, price})
					units, rest, _ := ratio.Of(q, mode)
					cash := int64(0)
					if rest.Num > 0 {
						x := new(big.Int).Mul(big.NewInt(price), big.NewInt(rest.Num))
						cash = x.Div(x, big.NewInt(rest.Den)).Int64()
					}
					if e != api.OK || !slices.Equal(l, []result{{"BANKA", units, rest, cash}}) {
						t.Error("Compute", ratio, mode, price, q, l, e)
					}
				}
			}
		}
	}
	l, e := entitlement.Compute([]holder{{"BANKB", 10}, {"BANKA", 3}}, terms{frac(1, 4), amount.Floor, 100})
	if !slices.Equal(l, []result{{"BANKB", 2, frac(1, 2), 50}, {"BANKA", 0, frac(3, 4), 75}}) || e != api.OK {
		t.Error(l, e)
	}
}

func manyHolders(n int) []holder {
	l := make([]holder, n)
	for i := range l {
		l[i] = holder{"M" + strconv.Itoa(1000+i), 1}
	}
	return l
}

// P42.2 P42.4 P42.5
func TestErrors(t *testing.T) {
	good := terms{frac(1, 4), amount.Floor, 5}
	long := manyHolders(entitlement.MaxHolders + 1)
	for n, x := range []struct {
		l []holder
		t terms
		e api.Errno
	}{
		{long, terms{fraction.Fraction{Num: 2, Den: 4}, -1, -1}, api.ErrFormat}, {long, terms{fraction.Fraction{}, -1, -1}, api.ErrRange}, {long, terms{frac(-1, 2), -1, -1}, api.ErrRange}, {long, terms{frac(1, 2), -1, -1}, api.ErrKind}, {long, terms{frac(1, 2), amount.NumModes, -1}, api.ErrKind}, {long, terms{frac(1, 2), 0, -1}, api.ErrRange}, {long, terms{frac(1, 2), 0, most + 1}, api.ErrRange},
		{long, good, api.ErrLimit}, {[]holder{{"CB", 0}}, good, api.ErrUnknown}, {[]holder{{"BANKA", 0}, {"", 1}}, good, api.ErrRange}, {[]holder{{"BANKA", most + 1}}, good, api.ErrRange}, {[]holder{{"BANKA", 1}, {"BANKA", 2}, {"", 1}}, good, api.ErrDuplicate}, {[]holder{{"BANKA", most}}, terms{frac(3, 2), 0, 0}, api.ErrOverflow}, {manyHolders(1024), good, api.OK}, {nil, good, api.OK},
	} {
		l, e1 := entitlement.Compute(x.l, x.t)
		s, e2 := entitlement.Shortfall(x.l, x.t)
		if e1 != x.e || e2 != x.e || x.e != api.OK && (len(l) != 0 || s != 0) {
			t.Error("Compute, Shortfall", n, e1, e2, "want", x.e)
		}
	}
	two := []holder{{"BANKA", most}, {"BANKB", 1}}
	if s, e := entitlement.Shortfall(two, good); s != 0 || e != api.ErrOverflow {
		t.Error("sum of the quantities", s, e)
	}
	halves := []holder{{"BANKA", most / 2}, {"BANKB", most / 2}}
	if s, e := entitlement.Shortfall(halves, terms{frac(3, 2), 0, 0}); s != 0 || e != api.ErrOverflow {
		t.Error("sum of the entitlements", s, e)
	}
	odd := []holder{{"BANKA", 1}, {"BANKB", most - 1}}
	if s, e := entitlement.Shortfall(odd, terms{frac(999999999, 1000000000), amount.Ceil, 0}); s != -1 || e != api.OK {
		t.Error("Ceil", s, e)
	}
}

// P42.3
func TestTotals(t *testing.T) {
	for n, x := range []struct {
		l    []result
		q, c int64
		e    api.Errno
	}{
		{nil, 0, 0, api.OK}, {[]result{{Quantity: 3, Cash: 4}, {Quantity: most - 3, Cash: most - 4}}, most, most, api.OK}, {[]result{{Quantity: most}, {Quantity: 1}}, 0, 0, api.ErrOverflow}, {[]result{{Cash: most}, {Cash: 1}}, 0, 0, api.ErrOverflow},
		{[]result{{Cash: most}, {Cash: 1}, {Quantity: -1}}, 0, 0, api.ErrRange}, {[]result{{Cash: -1}}, 0, 0, api.ErrRange}, {[]result{{Cash: most + 1}}, 0, 0, api.ErrRange}, {[]result{{Quantity: most + 1}}, 0, 0, api.ErrRange},
	} {
		if q, c, e := entitlement.Totals(x.l); q != x.q || c != x.c || e != x.e {
			t.Error("Totals", n, q, c, e)
		}
	}
	if q, _, e := entitlement.Totals(slices.Repeat([]result{{Quantity: most}}, 20000)); q != 0 || e != api.ErrOverflow {
		t.Error("many", q, e)
	}
}

// P42.4 P42.6
func TestAllocate(t *testing.T) {
	l := []holder{{"BANKC", 3}, {"BANKA", 3}, {"BANKB", 1}}
	for _, total := range []int64{0, 1, 2, 100, most} {
		parts, _ := fraction.Split(total, []int64{3, 3, 1})
		r, e := entitlement.Allocate(total, l)
		var sum int64
		for i, x := range r {
			sum += x.Quantity
			if x != (result{l[i].Owner, parts[i], frac(0, 1), 0}) {
				t.Error("Allocate", x)
			}
		}
		if sum != total || e != api.OK {
			t.Error("Allocate", total, r, e)
		}
	}
	for n, x := range []struct {
		total int64
		l     []holder
		e     api.Errno
	}{{-1, manyHolders(1025), api.ErrRange}, {5, manyHolders(1025), api.ErrLimit}, {5, []holder{{"", 1}}, api.ErrUnknown}, {5, nil, api.ErrArgument}, {most + 1, l, api.ErrOverflow}, {5, []holder{{"BANKA", most}, {"BANKB", 1}}, api.ErrOverflow}} {
		if r, e := entitlement.Allocate(x.total, x.l); len(r) != 0 || e != x.e {
			t.Error("error", n, r, e)
		}
	}
}

// P42.4
func TestCash(t *testing.T) {
	l := []holder{{"BANKB", 10}, {"BANKA", 3}}
	r, e := entitlement.Cash(l, frac(7, 4))
	if !slices.Equal(r, []result{{"BANKB", 0, frac(1, 2), 17}, {"BANKA", 0, frac(1, 4), 5}}) || e != api.OK {
		t.Error(r, e)
	}
	for n, x := range []struct {
		l    []holder
		rate fraction.Fraction
		e    api.Errno
	}{{manyHolders(1025), fraction.Fraction{Num: 2, Den: 4}, api.ErrFormat}, {manyHolders(1025), frac(-1, 2), api.ErrRange}, {manyHolders(1025), frac(1, 2), api.ErrLimit}, {[]holder{{"BANKA", 0}}, frac(1, 2), api.ErrRange}, {[]holder{{"BANKA", most}}, frac(2, 1), api.ErrOverflow}, {nil, frac(0, 1), api.OK}} {
		if r, e := entitlement.Cash(x.l, x.rate); len(r) != 0 || e != x.e {
			t.Error("error", n, r, e)
		}
	}
}

// P42.5 P42.6
func TestShortfall(t *testing.T) {
	for seed := range int64(200) {
		var l []holder
		sum := int64(0)
		for i := range seed % 7 {
			q := 1 + (seed*31+i*17)%97
			l = append(l, holder{"BANK" + strconv.Itoa(int(i)), q})
			sum += q
		}
		ratio := frac(1+seed%11, 1+seed%13)
		for mode := range amount.NumModes {
			entitled := int64(0)
			r, _ := entitlement.Compute(l, terms{ratio, mode, 0})
			for _, x := range r {
				entitled += x.Quantity
			}
			want := sum*ratio.Num/ratio.Den - entitled
			s, e := entitlement.Shortfall(l, terms{ratio, mode, 0})
			if s != want || e != api.OK {
				t.Error("Shortfall", seed, mode, s, want)
			}
			down := mode == amount.Floor || mode == amount.Down
			if down && (s < 0 || s > 0 && s >= int64(len(l))) || mode == amount.Ceil && s > 0 {
				t.Error("bounds", seed, mode, s)
			}
		}
	}
}

// Example 1
func TestExample(t *testing.T) {
	a, _ := entitlement.Compute([]holder{{"BANKA", 10}}, terms{frac(1, 4), amount.Floor, 100})
	b, _ := entitlement.Compute([]holder{{"BANKA", 10}}, terms{frac(1, 4), amount.Ceil, 100})
	if a[0] != (result{"BANKA", 2, frac(1, 2), 50}) || b[0] != (result{"BANKA", 3, frac(-1, 2), 0}) {
		t.Error(a, b)
	}
}

// P42.1 P42.5: the largest position and the largest entitlement.
func TestLargest(t *testing.T) {
	h := history.New()
	if e := h.Append(history.Bundle{Sequence: 1, Parts: []history.Part{move(acc("ISSUER", api.Issued, isin), acc("BANKA", api.Free, isin), most)}}); e != api.OK {
		t.Fatal(e)
	}
	l, e := entitlement.Holders(h, isin, 1)
	if !slices.Equal(l, []holder{{"BANKA", most}}) || e != api.OK {
		t.Error("Holders", l, e)
	}
	if x, e := entitlement.Shortfall(l, terms{Ratio: frac(1, 1)}); x != 0 || e != api.OK {
		t.Error("Shortfall", x, e)
	}
}
