package fraction_test

import (
	"math"
	"math/big"
	"slices"
	"strconv"
	"strings"
	"testing"

	"giro/amount"
	"giro/api"
	"giro/fraction"
)

type fr = fraction.Fraction

const (
	part = fraction.MaxPart
	most = api.MaxAmount
)

// parts contains numerators and denominators: small ones, and ones near the bound with and without common divisors.
var parts = []int64{0, 1, 2, 3, 4, 5, 6, 7, 12, 100, 30030, 65536, 333333333, 500000000, 500000001, 536870912, 999999937, part - 2, part - 1, part}

// broken contains fractions that are not valid, with the error of Check.
var broken = []struct {
	f fr
	e api.Errno
}{
	{fr{}, api.ErrRange}, {fr{1, 0}, api.ErrRange}, {fr{1, -1}, api.ErrRange}, {fr{1, part + 1}, api.ErrRange}, {fr{part + 1, 1}, api.ErrRange}, {fr{-part - 1, 1}, api.ErrRange}, {fr{0, -5}, api.ErrRange},
	{fr{math.MinInt64, math.MinInt64}, api.ErrRange}, {fr{math.MaxInt64, math.MaxInt64}, api.ErrRange}, {fr{1, math.MinInt64}, api.ErrRange}, {fr{math.MinInt64, 1}, api.ErrRange}, {fr{2, -4}, api.ErrRange}, {fr{part + 2, 4}, api.ErrRange}, {fr{4, part + 2}, api.ErrRange},
	{fr{2, 4}, api.ErrFormat}, {fr{-2, 4}, api.ErrFormat}, {fr{0, 2}, api.ErrFormat}, {fr{0, part}, api.ErrFormat}, {fr{part, part}, api.ErrFormat}, {fr{-part, part}, api.ErrFormat}, {fr{3, 999999999}, api.ErrFormat},
}

// valid returns all valid fractions with the parts of the list.
func valid() []fr {
	var l []fr
	for _, num := range parts {
		for _, den := range parts {
			for _, f := range []fr{{num, den}, {-num, den}} {
				if f.Check() == api.OK {
					l = append(l, f)
				}
			}
		}
	}
	return l
}

// rat returns the value of a fraction.
func rat(f fr) *big.Rat { return big.NewRat(f.Num, f.Den) }

// expect compares a fraction with the exact value that it should have.
func expect(t *testing.T, what string, f fr, e api.Errno, want *big.Rat) {
	t.Helper()
	bound := big.NewInt(part)
	if want.Num().CmpAbs(bound) > 0 || want.Denom().Cmp(bound) > 0 {
		if f != (fr{}) || e != api.ErrOverflow {
			t.Fatalf("%s: %v %d instead of an overflow for %v", what, f, e, want)
		}
		return
	}
	if f.Num != want.Num().Int64() || f.Den != want.Denom().Int64() || e != api.OK {
		t.Fatalf("%s: %v %d instead of %v", what, f, e, want)
	}
}

// P2.1
func TestNew(t *testing.T) {
	numbers := slices.Concat(parts, []int64{part + 1, part + 2, 2 * part, 3 * part, part * part, 2 * part * part, 7 * part * part, 1 << 62, math.MaxInt64 - 1, math.MaxInt64})
	for _, x := range slices.Clone(numbers) {
		numbers = append(numbers, -x)
	}
	numbers = append(numbers, math.MinInt64, math.MinInt64+1)
	for _, num := range numbers {
		for _, den := range numbers {
			f, e := fraction.New(num, den)
			if den == 0 {
				if f != (fr{}) || e != api.ErrRange {
					t.Errorf("%d/0: %v %d", num, f, e)
				}
				continue
			}
			expect(t, "New", f, e, new(big.Rat).SetFrac(big.NewInt(num), big.NewInt(den)))
		}
	}
	for _, c := range []struct{ num, den, wantNum, wantDen int64 }{
		{6, -4, -3, 2}, {-6, -4, 3, 2}, {0, -7, 0, 1}, {0, math.MinInt64, 0, 1}, {math.MinInt64, math.MinInt64, 1, 1}, {math.MinInt64, 1 << 62, -2, 1}, {1 << 62, math.MinInt64, -1, 2}, {math.MaxInt64, -math.MaxInt64, -1, 1},
	} {
		if f, e := fraction.New(c.num, c.den); f != (fr{c.wantNum, c.wantDen}) || e != api.OK {
			t.Errorf("%d/%d: %v %d", c.num, c.den, f, e)
		}
	}
}

// P2.2
func TestCheck(t *testing.T) {
	if fraction.MaxPart != 1000000000 {
		t.Error("MaxPart")
	}
	for _, c := range broken {
		if e := c.f.Check(); e != c.e {
			t.Errorf("%v: %d", c.f, e)
		}
	}
	for _, f := range []fr{{0, 1}, {1, 1}, {-1, 1}, {1, 2}, {-3, 2}, {part, 1}, {-part, 1}, {1, part}, {-1, part}, {part, part - 1}, {part - 1, part}, {-part, 999999999}} {
		if e := f.Check(); e != api.OK {
			t.Errorf("%v: %d", f, e)
		}
	}
	for num := int64(-30); num <= 30; num++ {
		for den := int64(1); den <= 30; den++ {
			f := fr{num, den}
			lowest := rat(f).Denom().Int64() == den
			if e := f.Check(); lowest && e != api.OK || !lowest && e != api.ErrFormat {
				t.Errorf("%v: %d", f, e)
			}
		}
	}
}

// operations are the arithmetic functions with their exact counterparts.
var operations = []struct {
	name  string
	f     func(a, b fr) (fr, api.Errno)
	exact func(z, x, y *big.Rat) *big.Rat
}{
	{"Add", fraction.Add, (*big.Rat).Add},
	{"Sub", fraction.Sub, (*big.Rat).Sub},
	{"Mul", fraction.Mul, (*big.Rat).Mul},
	{"Div", fraction.Div, (*big.Rat).Quo},
}

// P2.3
func TestArithmetic(t *testing.T) {
	l := valid()
	for _, op := range operations {
		for _, a := range l {
			for _, b := range l {
				f, e := op.f(a, b)
				if op.name == "Div" && b.Num == 0 {
					if f != (fr{}) || e != api.ErrRange {
						t.Errorf("%v / 0: %v %d", a, f, e)
					}
					continue
				}
				expect(t, op.name, f, e, op.exact(new(big.Rat), rat(a), rat(b)))
			}
		}
	}
}

// P2.3: the error for a precedes that for b, and both precede all others.
func TestArithmeticErrors(t *testing.T) {
	for _, op := range operations {
		for _, c := range broken {
			for _, b := range []fr{{0, 1}, {1, 2}, {part, 1}, {1, part}} {
				if f, e := op.f(c.f, b); f != (fr{}) || e != c.e {
					t.Errorf("%s(%v, %v): %v %d", op.name, c.f, b, f, e)
				}
				if f, e := op.f(b, c.f); f != (fr{}) || e != c.e {
					t.Errorf("%s(%v, %v): %v %d", op.name, b, c.f, f, e)
				}
			}
			for _, d := range broken {
				if f, e := op.f(c.f, d.f); f != (fr{}) || e != c.e {
					t.Errorf("%s(%v, %v): %v %d", op.name, c.f, d.f, f, e)
				}
			}
		}
	}
	if f, e := fraction.Div(fr{0, 1}, fr{0, 1}); f != (fr{}) || e != api.ErrRange {
		t.Errorf("0 / 0: %v %d", f, e)
	}
}

// P2.4
func TestCompare(t *testing.T) {
	l := valid()
	for _, a := range l {
		for _, b := range l {
			if c := fraction.Compare(a, b); c != rat(a).Cmp(rat(b)) {
				t.Fatalf("%v, %v: %d", a, b, c)
			}
		}
	}
	for _, c := range broken {
		for _, f := range []fr{{0, 1}, {1, 2}, {-1, 2}, {part, 1}, c.f} {
			if fraction.Compare(c.f, f) != 0 || fraction.Compare(f, c.f) != 0 {
				t.Errorf("%v, %v", c.f, f)
			}
		}
	}
}

// nearest returns the nearest integer to a value, the even one of two.
func nearest(x *big.Rat) *big.Int {
	floor := new(big.Int).Div(x.Num(), x.Denom())
	rest := new(big.Rat).Sub(x, new(big.Rat).SetInt(floor))
	side := rest.Cmp(big.NewRat(1, 2))
	if side > 0 || side == 0 && floor.Bit(0) == 1 {
		floor.Add(floor, big.NewInt(1))
	}
	return floor
}

// roundings returns the results of all modes for a value.
func roundings(x *big.Rat) [amount.NumModes]*big.Int {
	floor := new(big.Int).Div(x.Num(), x.Denom())
	ceil := new(big.Int).Neg(new(big.Int).Div(new(big.Int).Neg(x.Num()), x.Denom()))
	return [amount.NumModes]*big.Int{floor, ceil, nearest(x), new(big.Int).Quo(x.Num(), x.Denom())}
}

// checkOf compares Of with the exact results in all modes.
func checkOf(t *testing.T, f fr, x int64) {
	t.Helper()
	exact := new(big.Rat).Mul(rat(f), new(big.Rat).SetInt64(x))
	for mode, want := range roundings(exact) {
		n, rest, e := f.Of(x, mode)
		if want.CmpAbs(big.NewInt(most)) > 0 {
			if n != 0 || rest != (fr{}) || e != api.ErrOverflow {
				t.Fatalf("%v of %d, mode %d: %d %v %d", f, x, mode, n, rest, e)
			}
			continue
		}
		difference := new(big.Rat).Sub(exact, new(big.Rat).SetInt(want))
		if n != want.Int64() || rest.Check() != api.OK || rat(rest).Cmp(difference) != 0 || e != api.OK {
			t.Fatalf("%v of %d, mode %d: %d %v %d instead of %v %v", f, x, mode, n, rest, e, want, difference)
		}
	}
}

// P2.5
func TestOf(t *testing.T) {
	amounts := []int64{0, 1, 2, 3, 5, 7, 100, 12345, part - 1, part, part + 1, 1 << 32, 666666666666666, 666666666666667, 999999999999999, most}
	for _, f := range valid() {
		for _, x := range amounts {
			checkOf(t, f, x)
			checkOf(t, f, -x)
		}
	}
	for num := int64(-9); num <= 9; num++ {
		for den := int64(1); den <= 9; den++ {
			f, _ := fraction.New(num, den)
			for x := int64(-40); x <= 40; x++ {
				checkOf(t, f, x)
			}
		}
	}
	for i, c := range []struct {
		f    fr
		x    int64
		mode int
		n    int64
		rest fr
	}{
		{fr{1, 3}, 5, amount.Floor, 1, fr{2, 3}},
		{fr{1, 3}, 5, amount.Ceil, 2, fr{-1, 3}},
		{fr{1, 2}, 5, amount.HalfEven, 2, fr{1, 2}},
		{fr{1, 2}, 7, amount.HalfEven, 4, fr{-1, 2}},
		{fr{1, 2}, -5, amount.Down, -2, fr{-1, 2}},
		{fr{1, 6}, 8, amount.Floor, 1, fr{1, 3}},
		{fr{1, 6}, 12, amount.Ceil, 2, fr{0, 1}},
	} {
		if n, rest, e := c.f.Of(c.x, c.mode); n != c.n || rest != c.rest || e != api.OK {
			t.Errorf("%d: %d %v %d", i, n, rest, e)
		}
	}
}

// P2.5: results within a few units of the bounds, where one mode overflows and another one does not.
func TestOfNearBounds(t *testing.T) {
	for den := int64(1); den <= 9; den++ {
		for num := den; num <= 20; num++ {
			f, _ := fraction.New(num, den)
			middle := most / num * den
			for x := middle - 2*den; x <= min(middle+2*den, most); x++ {
				checkOf(t, f, x)
				checkOf(t, f, -x)
			}
		}
	}
	f := fr{part, part - 1}
	for x := int64(999998999999990); x <= 999999000000010; x++ {
		checkOf(t, f, x)
		checkOf(t, f, -x)
	}
}

// P2.5
func TestOfErrors(t *testing.T) {
	for _, c := range broken {
		for _, mode := range []int{-1, 0, 4} {
			for _, x := range []int64{0, 5, most + 1, math.MinInt64} {
				if n, rest, e := c.f.Of(x, mode); n != 0 || rest != (fr{}) || e != c.e {
					t.Errorf("%v of %d, mode %d: %d %v %d", c.f, x, mode, n, rest, e)
				}
			}
		}
	}
	for i, c := range []struct {
		f    fr
		x    int64
		mode int
		e    api.Errno
	}{
		{fr{1, 2}, 5, -1, api.ErrRange},
		{fr{1, 2}, 5, 4, api.ErrRange},
		{fr{1, 2}, 5, math.MaxInt, api.ErrRange},
		{fr{1, 2}, 5, math.MinInt, api.ErrRange},
		{fr{1, 2}, most + 1, 4, api.ErrRange},
		{fr{part, 1}, most, -1, api.ErrRange},
		{fr{1, 2}, most + 1, 0, api.ErrOverflow},
		{fr{1, 2}, -most - 1, 1, api.ErrOverflow},
		{fr{0, 1}, math.MaxInt64, 2, api.ErrOverflow},
		{fr{1, part}, math.MinInt64, 3, api.ErrOverflow},
		{fr{part, 1}, most, 0, api.ErrOverflow},
		{fr{-part, 1}, most, 3, api.ErrOverflow},
		{fr{1 << 20, 1}, 1 << 44, 0, api.ErrOverflow},
		{fr{-3, 2}, 666666666666667, amount.Floor, api.ErrOverflow},
		{fr{3, 2}, 666666666666667, amount.Ceil, api.ErrOverflow},
	} {
		if n, rest, e := c.f.Of(c.x, c.mode); n != 0 || rest != (fr{}) || e != c.e {
			t.Errorf("%d: %d %v %d", i, n, rest, e)
		}
	}
}

// P2.6
func TestString(t *testing.T) {
	for f, want := range map[fr]string{
		{0, 1}: "0", {1, 1}: "1", {-1, 1}: "-1", {1, 2}: "1/2", {-3, 2}: "-3/2", {part, 1}: "1000000000", {-part, 1}: "-1000000000", {1, part}: "1/1000000000", {-999999999, part}: "-999999999/1000000000", {10, 3}: "10/3",
	} {
		if f.String() != want {
			t.Errorf("%v: %q", want, f.String())
		}
		if g, e := fraction.Parse(want); g != f || e != api.OK {
			t.Errorf("%q: %v %d", want, g, e)
		}
	}
	for _, c := range broken {
		if s := c.f.String(); s != "" {
			t.Errorf("%q", s)
		}
	}
	for _, f := range valid() {
		if g, e := fraction.Parse(f.String()); g != f || e != api.OK {
			t.Errorf("%q: %v %d", f.String(), g, e)
		}
	}
}

// P2.6
func TestParseErrors(t *testing.T) {
	for _, s := range []string{
		"", "/", "1/", "/1", "/2", "-", "-/2", "+1", "+1/2", "1/+2", "-0", "-0/1", "0/1", "0/2", "00", "01", "01/2", "1/02", "1/2/3", "1//2", "1/1", "-5/1", "2/4", "-2/4", "6/3", "1/0", "0/0", "1/-2", "-1/-2", "--1/2",
		" 1/2", "1/2 ", "1 /2", "1/ 2", "1:2", "a", "1/a", "0x1", "1_0", "1_0/3", "1/1_1", "1e3", "1.5", "１", "1/2\x00", "\xff",
		"1000000001", "-1000000001", "1/1000000001", "1000000001/2", "9223372036854775807", "9223372036854775808", "-9223372036854775809/2", "18446744073709551617", "1/18446744073709551618", "99999999999999999999999999999999", strings.Repeat("0", 32),
	} {
		if f, e := fraction.Parse(s); f != (fr{}) || e != api.ErrFormat {
			t.Errorf("%q: %v %d", s, f, e)
		}
	}
	for _, s := range []string{strings.Repeat("1", 33), strings.Repeat(" ", 33), "1/2" + strings.Repeat("x", 30), "1/" + strings.Repeat("0", 100000) + "2"} {
		if f, e := fraction.Parse(s); f != (fr{}) || e != api.ErrLong {
			t.Errorf("%.40q: %v %d", s, f, e)
		}
	}
}

// P2.6: a text with a changed byte is accepted exactly if it is the text form of what is returned.
func TestParseCanonical(t *testing.T) {
	for _, text := range []string{"0", "7/12", "-10/21", "100"} {
		for i := range len(text) {
			for c := range 256 {
				s := text[:i] + string([]byte{byte(c)}) + text[i+1:]
				f, e := fraction.Parse(s)
				if e == api.OK && f.String() != s || e != api.OK && (f != (fr{}) || e != api.ErrFormat) {
					t.Errorf("%q: %v %d", s, f, e)
				}
			}
		}
	}
}

// share divides in the way of the chapter, with integers of any size.
func share(total int64, weights []int64) []int64 {
	if total < 0 {
		l := share(-total, weights)
		for i := range l {
			l[i] = -l[i]
		}
		return l
	}
	sum := new(big.Int)
	for _, w := range weights {
		sum.Add(sum, big.NewInt(w))
	}
	l := make([]int64, len(weights))
	rest := make([]*big.Int, len(weights))
	left := total
	for i, w := range weights {
		product := new(big.Int).Mul(big.NewInt(total), big.NewInt(w))
		q, r := new(big.Int).DivMod(product, sum, new(big.Int))
		l[i], rest[i] = q.Int64(), r
		left -= l[i]
	}
	for range left {
		best := -1
		for i, r := range rest {
			if r != nil && (best < 0 || r.Cmp(rest[best]) > 0) {
				best = i
			}
		}
		l[best]++
		rest[best] = nil
	}
	return l
}

// numbers returns a reproducible list of numbers below a bound.
func numbers(n int, seed, bound uint64) []int64 {
	l := make([]int64, n)
	for i := range l {
		seed = seed*6364136223846793005 + 1442695040888963407
		l[i] = int64((seed >> 11) % bound)
	}
	return l
}

// checkSplit compares Split with the exact division and checks its consequences.
func checkSplit(t *testing.T, total int64, weights []int64) {
	t.Helper()
	before := slices.Clone(weights)
	l, e := fraction.Split(total, weights)
	if want := share(total, weights); e != api.OK || !slices.Equal(l, want) {
		t.Fatalf("Split(%d, %v): %v %d instead of %v", total, weights, l, e, want)
	}
	if !slices.Equal(weights, before) {
		t.Fatalf("Split(%d, %v) modifies its argument", total, before)
	}
	if sum, e := amount.Sum(l...); sum != total || e != api.OK {
		t.Fatalf("Split(%d, %v): the parts add up to %d", total, weights, sum)
	}
	for i, w := range weights {
		if total >= 0 && i > 0 && (w > weights[i-1] && l[i] < l[i-1] || w < weights[i-1] && l[i] > l[i-1]) {
			t.Fatalf("Split(%d, %v): %v is not monotone", total, weights, l)
		}
	}
	for i := range l {
		l[i] = -77
	}
	if again, _ := fraction.Split(total, weights); !slices.Equal(weights, before) || !slices.Equal(again, share(total, weights)) {
		t.Fatalf("Split(%d, %v) shares memory", total, weights)
	}
}

// P2.7, P2.8
func TestSplit(t *testing.T) {
	for i, c := range []struct {
		total   int64
		weights []int64
		want    []int64
	}{
		{10, []int64{1, 1, 1}, []int64{4, 3, 3}},
		{-10, []int64{1, 1, 1}, []int64{-4, -3, -3}},
		{11, []int64{1, 1, 1}, []int64{4, 4, 3}},
		{7, []int64{0, 2, 5}, []int64{0, 2, 5}},
		{0, []int64{0, 2, 5}, []int64{0, 0, 0}},
		{1, []int64{0, 1, 2}, []int64{0, 0, 1}},
		{1, []int64{0, 1, 1}, []int64{0, 1, 0}},
		{100, []int64{3, 3, 1}, []int64{43, 43, 14}},
		{5, []int64{9}, []int64{5}},
		{-5, []int64{9}, []int64{-5}},
		{most, []int64{most}, []int64{most}},
		{-most, []int64{most}, []int64{-most}},
		{most, []int64{1, most - 1}, []int64{1, most - 1}},
		{most, []int64{1, 1}, []int64{most / 2, most / 2}},
		{most - 1, []int64{most / 2, most / 2}, []int64{most / 2, most/2 - 1}},
		{3, []int64{10, 11, 12, 13}, []int64{0, 1, 1, 1}},
	} {
		if l, e := fraction.Split(c.total, c.weights); !slices.Equal(l, c.want) || e != api.OK {
			t.Errorf("%d: %v %d", i, l, e)
		}
	}
	for _, weights := range [][]int64{{1}, {1, 1}, {1, 1, 1, 1, 1, 1, 1}, {0, 0, 1}, {1, 0, 0}, {1, 2, 3, 4, 5}, {5, 4, 3, 2, 1}, {3, 1, 3, 1, 3}, {7, 7, 2}, {100, 1, 100}, {most / 3, most / 3, most / 3}, {1, most / 2, most/2 - 1}, {most - 1, 1}} {
		for total := int64(-25); total <= 25; total++ {
			checkSplit(t, total, weights)
		}
		for _, total := range []int64{333, most / 3, most - 1, most} {
			checkSplit(t, total, weights)
			checkSplit(t, -total, weights)
		}
	}
	for seed := range uint64(200) {
		weights := numbers(1+int(seed)%23, seed, 2+seed*seed)
		weights = append(weights, 1)
		for _, total := range numbers(8, seed+1000, 3+seed*seed*seed) {
			checkSplit(t, total, weights)
			checkSplit(t, -total, weights)
		}
		large := numbers(1+int(seed)%23, seed+500, most/25)
		checkSplit(t, most-int64(seed), append(large, 5))
	}
}

// P2.7: as many weights as are permitted, all equal, so that the lower indices receive the units that are left over.
func TestSplitMany(t *testing.T) {
	weights := slices.Repeat([]int64{244140625}, 4096)
	weights[4095]--
	checkSplit(t, 1000, weights)
	checkSplit(t, most, weights)
	checkSplit(t, -4095*7-1, weights)
	l, e := fraction.Split(4096*5+3, slices.Repeat([]int64{1}, 4096))
	if e != api.OK || len(l) != 4096 {
		t.Fatal(len(l), e)
	}
	for i, x := range l {
		if i < 3 && x != 6 || i >= 3 && x != 5 {
			t.Errorf("%d: %d", i, x)
		}
	}
}

// P2.7
func TestSplitErrors(t *testing.T) {
	many := func(n int, w int64) []int64 { return slices.Repeat([]int64{w}, n) }
	for i, c := range []struct {
		total   int64
		weights []int64
		e       api.Errno
	}{
		{5, nil, api.ErrArgument},
		{5, []int64{}, api.ErrArgument},
		{math.MinInt64, nil, api.ErrArgument},
		{5, many(4097, 1), api.ErrLimit},
		{5, many(4097, 0), api.ErrLimit},
		{5, many(4097, -1), api.ErrLimit},
		{most + 1, many(5000, most), api.ErrLimit},
		{5, []int64{1, -1}, api.ErrRange},
		{5, []int64{-1, 2}, api.ErrRange},
		{5, []int64{1, most + 1}, api.ErrRange},
		{5, []int64{math.MinInt64}, api.ErrRange},
		{5, []int64{math.MaxInt64, math.MaxInt64, 2}, api.ErrRange},
		{most + 1, []int64{1, -1}, api.ErrRange},
		{5, []int64{most, most, -1}, api.ErrRange},
		{5, []int64{0}, api.ErrRange},
		{0, []int64{0, 0, 0}, api.ErrRange},
		{most + 1, many(4096, 0), api.ErrRange},
		{5, []int64{most, 1}, api.ErrOverflow},
		{0, []int64{most, most}, api.ErrOverflow},
		{5, many(4096, most), api.ErrOverflow},
		{most + 1, []int64{1}, api.ErrOverflow},
		{-most - 1, []int64{1, 2}, api.ErrOverflow},
		{math.MinInt64, []int64{1}, api.ErrOverflow},
		{math.MaxInt64, []int64{1}, api.ErrOverflow},
	} {
		if l, e := fraction.Split(c.total, c.weights); len(l) != 0 || e != c.e {
			t.Errorf("%d: %d parts, %d", i, len(l), e)
		}
	}
}

// P2.8
func TestLaws(t *testing.T) {
	var l []fr
	for num := int64(-6); num <= 6; num++ {
		for den := int64(1); den <= 6; den++ {
			if f := (fr{num, den}); f.Check() == api.OK {
				l = append(l, f)
			}
		}
	}
	do := func(f func(a, b fr) (fr, api.Errno), a, b fr) fr {
		t.Helper()
		r, e := f(a, b)
		if e != api.OK {
			t.Fatalf("%v, %v: %d", a, b, e)
		}
		return r
	}
	for _, a := range l {
		for _, b := range l {
			sum, product := do(fraction.Add, a, b), do(fraction.Mul, a, b)
			if sum != do(fraction.Add, b, a) || product != do(fraction.Mul, b, a) {
				t.Errorf("%v, %v: not commutative", a, b)
			}
			if do(fraction.Sub, sum, b) != a || b.Num != 0 && do(fraction.Div, product, b) != a {
				t.Errorf("%v, %v: not undone", a, b)
			}
			for _, c := range l {
				if do(fraction.Add, sum, c) != do(fraction.Add, a, do(fraction.Add, b, c)) || do(fraction.Mul, product, c) != do(fraction.Mul, a, do(fraction.Mul, b, c)) {
					t.Errorf("%v, %v, %v: not associative", a, b, c)
				}
			}
		}
	}
}

// P2.8
func TestRoundingConsequences(t *testing.T) {
	for _, f := range valid() {
		for _, x := range []int64{0, 1, 2, 3, 5, 10, 999, 123456, 999983} {
			floor, below, e := f.Of(x, amount.Floor)
			if e != api.OK {
				t.Fatalf("%v of %d: %d", f, x, e)
			}
			ceil, above, e := f.Of(x, amount.Ceil)
			if e != api.OK || below.Num < 0 || above.Num > 0 || ceil-floor > 1 || (ceil == floor) != (below.Num == 0) {
				t.Errorf("%v of %d: %s and %s", f, x, strconv.FormatInt(floor, 10)+" + "+below.String(), strconv.FormatInt(ceil, 10)+" + "+above.String())
			}
			negated, _, e := f.Of(-x, amount.Floor)
			if e != api.OK || negated != -ceil {
				t.Errorf("%v of %d: %d %d", f, -x, negated, e)
			}
		}
	}
}
