package amount_test

import (
	"math"
	"math/big"
	"slices"
	"strconv"
	"strings"
	"testing"

	"giro/amount"
	"giro/api"
)

const most = api.MaxAmount

// inside contains valid amounts: small ones, ones near the bounds, and ones whose products exceed 64 bits.
var inside = []int64{0, 1, 2, 3, 5, 7, 10, 50, 99, 100, 101, 150, 999, 12345, 1 << 31, 1<<31 + 1, 1 << 32, 333333333333333, 500000000000000, 500000000000001, 666666666666667, 999999999999989, most - 2, most - 1, most}

// outside contains numbers that are not valid amounts.
var outside = []int64{most + 1, -most - 1, 1 << 60, -1 << 60, math.MaxInt64, math.MinInt64, math.MinInt64 + 1}

// signed returns the numbers of a list with both signs.
func signed(l []int64) []int64 {
	r := slices.Clone(l)
	for _, x := range l {
		r = append(r, -x)
	}
	return r
}

// valid says of a big integer whether it is an amount.
func valid(x *big.Int) bool {
	return x.CmpAbs(big.NewInt(most)) <= 0
}

// rounded rounds num/den in the way of the chapter, for den > 0.
func rounded(num, den *big.Int, mode int) *big.Int {
	floor, rest := new(big.Int).DivMod(num, den, new(big.Int))
	up := false
	switch mode {
	case amount.Ceil:
		up = rest.Sign() > 0
	case amount.HalfEven:
		twice := new(big.Int).Lsh(rest, 1).Cmp(den)
		up = twice > 0 || twice == 0 && floor.Bit(0) == 1
	case amount.Down:
		up = rest.Sign() > 0 && num.Sign() < 0
	}
	if up {
		floor.Add(floor, big.NewInt(1))
	}
	return floor
}

// expect compares a result with the exact one.
func expect(t *testing.T, what string, got int64, e api.Errno, want *big.Int) {
	t.Helper()
	if !valid(want) {
		if got != 0 || e != api.ErrOverflow {
			t.Fatalf("%s: %d %d instead of an overflow", what, got, e)
		}
		return
	}
	if got != want.Int64() || e != api.OK {
		t.Fatalf("%s: %d %d instead of %s", what, got, e, want)
	}
}

func TestConstants(t *testing.T) {
	if amount.Floor != 0 || amount.Ceil != 1 || amount.HalfEven != 2 || amount.Down != 3 || amount.NumModes != 4 {
		t.Error("rounding modes")
	}
}

// P1.1
func TestValid(t *testing.T) {
	for _, x := range signed(inside) {
		if !amount.Valid(x) {
			t.Errorf("%d is an amount", x)
		}
	}
	for _, x := range outside {
		if amount.Valid(x) {
			t.Errorf("%d is not an amount", x)
		}
	}
}

// P1.1
func TestAddSubNeg(t *testing.T) {
	for _, a := range signed(inside) {
		x, e := amount.Neg(a)
		expect(t, "Neg", x, e, big.NewInt(-a))
		for _, b := range signed(inside) {
			x, e = amount.Add(a, b)
			expect(t, "Add", x, e, big.NewInt(a+b))
			x, e = amount.Sub(a, b)
			expect(t, "Sub", x, e, big.NewInt(a-b))
		}
	}
}

// P1.1: an argument that is not valid is an error even where the result would be valid.
func TestAddSubNegRange(t *testing.T) {
	check := func(what string, x int64, e api.Errno) {
		t.Helper()
		if x != 0 || e != api.ErrRange {
			t.Errorf("%s: %d %d", what, x, e)
		}
	}
	for _, a := range outside {
		x, e := amount.Neg(a)
		check("Neg", x, e)
		for _, b := range slices.Concat(signed(inside), outside) {
			x, e = amount.Add(a, b)
			check("Add", x, e)
			x, e = amount.Add(b, a)
			check("Add", x, e)
			x, e = amount.Sub(a, b)
			check("Sub", x, e)
			x, e = amount.Sub(b, a)
			check("Sub", x, e)
		}
	}
}

// P1.1
func TestSum(t *testing.T) {
	for i, c := range []struct {
		l    []int64
		want int64
		e    api.Errno
	}{
		{nil, 0, api.OK},
		{[]int64{}, 0, api.OK},
		{[]int64{7}, 7, api.OK},
		{[]int64{-7}, -7, api.OK},
		{[]int64{1, 2, -10}, -7, api.OK},
		{[]int64{most}, most, api.OK},
		{[]int64{-most}, -most, api.OK},
		{[]int64{most, 1}, 0, api.ErrOverflow},
		{[]int64{-most, -1}, 0, api.ErrOverflow},
		{[]int64{most, most, most, -most, -most}, most, api.OK},
		{[]int64{-most, -most, -1, most, most}, -1, api.OK},
		{[]int64{most + 1}, 0, api.ErrRange},
		{[]int64{-most - 1, 1}, 0, api.ErrRange},
		{[]int64{most, most, most + 1}, 0, api.ErrRange},
		{[]int64{math.MaxInt64, math.MinInt64, 1}, 0, api.ErrRange},
	} {
		before := slices.Clone(c.l)
		x, e := amount.Sum(c.l...)
		if x != c.want || e != c.e {
			t.Errorf("%d: %d %d", i, x, e)
		}
		if !slices.Equal(c.l, before) {
			t.Errorf("%d: the arguments are modified", i)
		}
	}
	if x, e := amount.Sum(); x != 0 || e != api.OK {
		t.Errorf("no arguments: %d %d", x, e)
	}
}

// P1.1: the sums of these lists exceed 64 bits on the way, and some of them would wrap around to an amount.
func TestSumOfMany(t *testing.T) {
	for _, sign := range []int64{1, -1} {
		for _, n := range []int{9223, 9224, 10000, 18446, 18447, 18448, 36894, 40000} {
			l := make([]int64, n, 2*n+1)
			for i := range l {
				l[i] = sign * most
			}
			if x, e := amount.Sum(l...); x != 0 || e != api.ErrOverflow {
				t.Errorf("%d times %d: %d %d", n, sign, x, e)
			}
			for range n {
				l = append(l, -sign*most)
			}
			l = append(l, sign*42)
			if x, e := amount.Sum(l...); x != sign*42 || e != api.OK {
				t.Errorf("%d times %d and back: %d %d", n, sign, x, e)
			}
			l[len(l)-1] = most + 1
			if x, e := amount.Sum(l...); x != 0 || e != api.ErrRange {
				t.Errorf("%d times %d and an invalid one: %d %d", n, sign, x, e)
			}
		}
	}
}

// P1.2
func TestMulDiv(t *testing.T) {
	for _, x := range signed(inside) {
		for _, num := range signed(inside) {
			product := new(big.Int).Mul(big.NewInt(x), big.NewInt(num))
			for _, den := range inside {
				if den == 0 {
					continue
				}
				divisor := big.NewInt(den)
				for mode := range amount.NumModes {
					got, e := amount.MulDiv(x, num, den, mode)
					expect(t, "MulDiv", got, e, rounded(product, divisor, mode))
				}
			}
		}
	}
}

// P1.2
func TestMulDivModes(t *testing.T) {
	for i, c := range []struct {
		x, num, den int64
		want        [4]int64
		e           [4]api.Errno
	}{
		{7, 1, 2, [4]int64{3, 4, 4, 3}, [4]api.Errno{}},
		{-7, 1, 2, [4]int64{-4, -3, -4, -3}, [4]api.Errno{}},
		{5, 1, 2, [4]int64{2, 3, 2, 2}, [4]api.Errno{}},
		{-5, 1, 2, [4]int64{-3, -2, -2, -2}, [4]api.Errno{}},
		{1, 1, 2, [4]int64{0, 1, 0, 0}, [4]api.Errno{}},
		{-1, 1, 2, [4]int64{-1, 0, 0, 0}, [4]api.Errno{}},
		{-3, -1, 2, [4]int64{1, 2, 2, 1}, [4]api.Errno{}},
		{2, -1, 3, [4]int64{-1, 0, -1, 0}, [4]api.Errno{}},
		{1, 1, 3, [4]int64{0, 1, 0, 0}, [4]api.Errno{}},
		{6, 1, 3, [4]int64{2, 2, 2, 2}, [4]api.Errno{}},
		{0, -5, 3, [4]int64{}, [4]api.Errno{}},
		// some modes round these to an amount, others do not
		{666666666666667, 3, 2, [4]int64{most, 0, most, most}, [4]api.Errno{0, 12, 0, 0}},
		{-666666666666667, 3, 2, [4]int64{0, -most, -most, -most}, [4]api.Errno{12, 0, 0, 0}},
		{857142857142857, 7, 6, [4]int64{most - 1, most, most, most - 1}, [4]api.Errno{}},
		{-857142857142857, 7, 6, [4]int64{-most, 1 - most, -most, 1 - most}, [4]api.Errno{}},
		{555555555555556, 9, 5, [4]int64{most, 0, 0, most}, [4]api.Errno{0, 12, 12, 0}},
		{-555555555555556, 9, 5, [4]int64{0, -most, 0, -most}, [4]api.Errno{12, 0, 12, 0}},
	} {
		for mode := range amount.NumModes {
			if got, e := amount.MulDiv(c.x, c.num, c.den, mode); got != c.want[mode] || e != c.e[mode] {
				t.Errorf("%d, mode %d: %d %d", i, mode, got, e)
			}
		}
	}
}

// P1.2: quotients within a few units of the bounds, from both sides.
func TestMulDivNearBounds(t *testing.T) {
	for den := int64(1); den <= 12; den++ {
		for num := den; num <= 24; num++ {
			middle := most / num * den
			for x := middle - 3*den; x <= min(middle+3*den, most); x++ {
				for mode := range amount.NumModes {
					for _, sign := range []int64{1, -1} {
						got, e := amount.MulDiv(sign*x, num, den, mode)
						expect(t, "MulDiv", got, e, rounded(big.NewInt(sign*x*num), big.NewInt(den), mode))
					}
				}
				floor, rest := new(big.Int).DivMod(big.NewInt(-x*num), big.NewInt(den), new(big.Int))
				q, r, e := amount.MulRem(-x, num, den)
				expect(t, "MulRem", q, e, floor)
				if e == api.OK && r != rest.Int64() || e != api.OK && r != 0 {
					t.Fatalf("MulRem(%d, %d, %d): %d", -x, num, den, r)
				}
			}
		}
	}
}

// P1.2
func TestMulDivErrors(t *testing.T) {
	for i, c := range []struct {
		x, num, den int64
		mode        int
		e           api.Errno
	}{
		{1, 1, 1, -1, api.ErrKind},
		{1, 1, 1, 4, api.ErrKind},
		{1, 1, 1, math.MaxInt, api.ErrKind},
		{1, 1, 1, math.MinInt, api.ErrKind},
		{math.MaxInt64, 1, 0, 4, api.ErrKind},
		{most, most, 1, -1, api.ErrKind},
		{most + 1, 0, 1, 0, api.ErrRange},
		{-most - 1, 0, 1, 1, api.ErrRange},
		{0, most + 1, 1, 2, api.ErrRange},
		{0, -most - 1, 1, 3, api.ErrRange},
		{1, 1, 0, 0, api.ErrRange},
		{1, 1, -1, 0, api.ErrRange},
		{1, 1, most + 1, 0, api.ErrRange},
		{most, most, 0, 0, api.ErrRange},
		{math.MinInt64, math.MinInt64, math.MinInt64, 0, api.ErrRange},
		{math.MaxInt64, math.MaxInt64, math.MaxInt64, 0, api.ErrRange},
		{most, most, 1, 0, api.ErrOverflow},
		{most, -most, 1, 1, api.ErrOverflow},
		// the low 64 bits of the product 2^64 would be 0
		{1 << 32, 1 << 32, 1, 2, api.ErrOverflow},
		{1 << 33, 1 << 40, 1 << 9, 3, api.ErrOverflow},
	} {
		if x, e := amount.MulDiv(c.x, c.num, c.den, c.mode); x != 0 || e != c.e {
			t.Errorf("%d: %d %d", i, x, e)
		}
	}
}

// P1.2
func TestMulRem(t *testing.T) {
	for _, x := range signed(inside) {
		for _, num := range signed(inside) {
			product := new(big.Int).Mul(big.NewInt(x), big.NewInt(num))
			for _, den := range inside {
				if den == 0 {
					continue
				}
				floor, rest := new(big.Int).DivMod(product, big.NewInt(den), new(big.Int))
				q, r, e := amount.MulRem(x, num, den)
				expect(t, "MulRem", q, e, floor)
				if e != api.OK {
					rest.SetInt64(0)
				}
				if r != rest.Int64() {
					t.Fatalf("MulRem(%d, %d, %d): %d", x, num, den, r)
				}
			}
		}
	}
	for i, c := range []struct {
		x, num, den int64
		e           api.Errno
	}{
		{most + 1, 0, 1, api.ErrRange},
		{0, -most - 1, 1, api.ErrRange},
		{1, 1, 0, api.ErrRange},
		{1, 1, -5, api.ErrRange},
		{1, 1, most + 1, api.ErrRange},
		{math.MinInt64, math.MinInt64, math.MinInt64, api.ErrRange},
		{most, most, most - 1, api.ErrOverflow},
		{1 << 32, 1 << 32, 1, api.ErrOverflow},
		{-666666666666667, 3, 2, api.ErrOverflow},
	} {
		if q, r, e := amount.MulRem(c.x, c.num, c.den); q != 0 || r != 0 || e != c.e {
			t.Errorf("%d: %d %d %d", i, q, r, e)
		}
	}
}

// P1.3
func TestFormat(t *testing.T) {
	for x, want := range map[int64]string{
		0: "0.00", 1: "0.01", 9: "0.09", 10: "0.10", 99: "0.99", 100: "1.00", 101: "1.01", 150: "1.50", 12345: "123.45", 100000: "1000.00",
		-1: "-0.01", -10: "-0.10", -99: "-0.99", -100: "-1.00", -150: "-1.50", -12005: "-120.05",
		most: "10000000000000.00", -most: "-10000000000000.00", most - 1: "9999999999999.99", 1 - most: "-9999999999999.99",
	} {
		if s, e := amount.Format(x); s != want || e != api.OK {
			t.Errorf("%d: %q %d", x, s, e)
		}
		if y, e := amount.Parse(want); y != x || e != api.OK {
			t.Errorf("%q: %d %d", want, y, e)
		}
	}
	for _, x := range outside {
		if s, e := amount.Format(x); s != "" || e != api.ErrRange {
			t.Errorf("%d: %q %d", x, s, e)
		}
	}
}

// P1.3
func TestParseErrors(t *testing.T) {
	for _, s := range []string{
		"", "-", ".", "-.", "0", "1", "-1", "12", "1.", "1.0", "1.000", ".00", ".10", "-.10", "00.00", "01.00", "-01.00", "007.50", "-0.00", "+1.00", "+0.00", "--1.00", "-+1.00",
		" 1.00", "1.00 ", "1 .00", "1. 00", "- 1.00", "1,00", "1.00.00", "1..00", "1.0.0", "1.-1", "1.+1", "1.a0", "1.0a", "a.00", "1a.00", "0x1.00", "1_000.00", "1e2.00", "1.0\x00", "1.00\n", "１.00", "1.００", "1/.00", "1:.00", "1.0/", "1.0:", "\xff.00",
		// a form that is wrong comes before a number that is too large
		"99999999999999999999999.0", "099999999999999999999.00", "99999999999999999999999", "-099999999999999999999.00", "99999999999999999999999.0x", "99999999999999x.00",
	} {
		if x, e := amount.Parse(s); x != 0 || e != api.ErrFormat {
			t.Errorf("%q: %d %d", s, x, e)
		}
	}
	nines := strings.Repeat("9", 100000)
	for _, s := range []string{
		"10000000000000.01", "-10000000000000.01", "10000000000001.00", "99999999999999.99", "100000000000000.00", "-100000000000000.00",
		// 2^63, 2^64, 2^64 + 1 and 2^128 + 1 hundredths
		"92233720368547758.08", "-92233720368547758.08", "184467440737095516.16", "184467440737095516.17", "-184467440737095516.17", "3402823669209384634633746074317682114.57",
		nines + ".00", "-" + nines + ".99", "1" + strings.Repeat("0", 100000) + ".00",
	} {
		if x, e := amount.Parse(s); x != 0 || e != api.ErrOverflow {
			t.Errorf("%.40q: %d %d", s, x, e)
		}
	}
}

// P1.3: a text with a changed byte is accepted exactly if it is the text form of what is returned.
func TestParseCanonical(t *testing.T) {
	for _, text := range []string{"0.00", "-0.01", "-12.30", "1000.00"} {
		for i := range len(text) {
			for c := range 256 {
				s := text[:i] + string([]byte{byte(c)}) + text[i+1:]
				x, e := amount.Parse(s)
				back, _ := amount.Format(x)
				if e == api.OK && back != s || e != api.OK && (x != 0 || e != api.ErrFormat) {
					t.Errorf("%q: %d %d", s, x, e)
				}
			}
		}
	}
}

// P1.4
func TestRoundingConsequences(t *testing.T) {
	round := func(x, num, den int64, mode int) int64 {
		t.Helper()
		r, e := amount.MulDiv(x, num, den, mode)
		if e != api.OK {
			t.Fatalf("MulDiv(%d, %d, %d, %d): %d", x, num, den, mode, e)
		}
		return r
	}
	for num := int64(0); num <= 12; num++ {
		for den := int64(1); den <= 12; den++ {
			last := [4]int64{math.MinInt64, math.MinInt64, math.MinInt64, math.MinInt64}
			for x := int64(-60); x <= 60; x++ {
				floor, ceil, even := round(x, num, den, amount.Floor), round(x, num, den, amount.Ceil), round(x, num, den, amount.HalfEven)
				if floor > even || even > ceil || ceil-floor > 1 {
					t.Errorf("%d * %d / %d: %d %d %d", x, num, den, floor, even, ceil)
				}
				if exact := x*num%den == 0; exact != (floor == ceil) {
					t.Errorf("%d * %d / %d: %d %d", x, num, den, floor, ceil)
				}
				if round(-x, num, den, amount.Ceil) != -floor || round(-x, num, den, amount.HalfEven) != -even || round(-x, num, den, amount.Down) != -round(x, num, den, amount.Down) {
					t.Errorf("%d * %d / %d is not symmetric", x, num, den)
				}
				for mode := range last {
					r := round(x, num, den, mode)
					if r < last[mode] {
						t.Errorf("%d * %d / %d, mode %d: not monotone", x, num, den, mode)
					}
					last[mode] = r
				}
			}
		}
	}
}

// P1.4
func TestFormatParseInverse(t *testing.T) {
	check := func(x int64) {
		t.Helper()
		s, e := amount.Format(x)
		if e != api.OK {
			t.Fatalf("%d: %d", x, e)
		}
		if y, e := amount.Parse(s); y != x || e != api.OK {
			t.Fatalf("%q: %d %d", s, y, e)
		}
		digits := strings.Replace(s, ".", "", 1)
		if y, err := strconv.ParseInt(digits, 10, 64); y != x || err != nil || s[len(s)-3] != '.' {
			t.Fatalf("%d: %q", x, s)
		}
	}
	for x := int64(-12000); x <= 12000; x++ {
		check(x)
	}
	for _, x := range signed(inside) {
		check(x)
	}
	for x := int64(1); x < most/7; x *= 7 {
		check(x)
		check(-x)
	}
}
