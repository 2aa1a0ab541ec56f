// Package fraction implements exact fractions and the largest remainder method (layer 2).
package fraction

import (
	"cmp"
	"slices"
	"strconv"
	"strings"

	"giro/amount"
	"giro/api"
)

// MaxPart is the maximum absolute value of a numerator and the maximum denominator.
const MaxPart = 1000000000

// The longest text and the largest number of weights that are accepted.
const (
	maxText    = 32
	maxWeights = 4096
)

// Fraction is a fraction in lowest terms with a positive denominator.
type Fraction struct {
	Num, Den int64
}

// New returns num/den in lowest terms.
func New(num, den int64) (Fraction, api.Errno) {
	if den == 0 {
		return Fraction{}, api.ErrRange
	}
	n, d := magnitude(num), magnitude(den)
	divisor := gcd(n, d)
	n /= divisor
	d /= divisor
	if n > MaxPart || d > MaxPart {
		return Fraction{}, api.ErrOverflow
	}
	f := Fraction{int64(n), int64(d)}
	if (num < 0) != (den < 0) {
		f.Num = -f.Num
	}
	return f, api.OK
}

// Check reports whether a fraction is valid.
func (f Fraction) Check() api.Errno {
	if f.Num < -MaxPart || f.Num > MaxPart || f.Den < 1 || f.Den > MaxPart {
		return api.ErrRange
	}
	if gcd(magnitude(f.Num), magnitude(f.Den)) != 1 {
		return api.ErrFormat
	}
	return api.OK
}

// The parts of valid fractions are small enough that their products, and the sum of two products, fit into 64 bits.

// Add returns a + b.
func Add(a, b Fraction) (Fraction, api.Errno) {
	if e := checkBoth(a, b); e != api.OK {
		return Fraction{}, e
	}
	return New(a.Num*b.Den+b.Num*a.Den, a.Den*b.Den)
}

// Sub returns a - b.
func Sub(a, b Fraction) (Fraction, api.Errno) {
	if e := checkBoth(a, b); e != api.OK {
		return Fraction{}, e
	}
	return New(a.Num*b.Den-b.Num*a.Den, a.Den*b.Den)
}

// Mul returns a * b.
func Mul(a, b Fraction) (Fraction, api.Errno) {
	if e := checkBoth(a, b); e != api.OK {
		return Fraction{}, e
	}
	return New(a.Num*b.Num, a.Den*b.Den)
}

// Div returns a / b; New refuses a b that is zero.
func Div(a, b Fraction) (Fraction, api.Errno) {
	if e := checkBoth(a, b); e != api.OK {
		return Fraction{}, e
	}
	return New(a.Num*b.Den, a.Den*b.Num)
}

// Compare returns -1, 0 or 1 if a is less than, equal to or greater than b.
func Compare(a, b Fraction) int {
	if checkBoth(a, b) != api.OK {
		return 0
	}
	return cmp.Compare(a.Num*b.Den, b.Num*a.Den)
}

// Of returns the fraction of an amount, rounded by a mode of package amount, and the exact remainder.
func (f Fraction) Of(x int64, mode int) (int64, Fraction, api.Errno) {
	if e := f.Check(); e != api.OK {
		return 0, Fraction{}, e
	}
	if mode < 0 || mode >= amount.NumModes {
		return 0, Fraction{}, api.ErrRange
	}
	if !amount.Valid(x) {
		return 0, Fraction{}, api.ErrOverflow
	}
	// x * Num may need more than 64 bits. The product of x / Den and Num fits if the result does, as it is not further from zero; that of x % Den and Num always fits.
	whole, e := amount.MulDiv(x/f.Den, f.Num, 1, amount.Down)
	if e != api.OK {
		return 0, Fraction{}, e
	}
	part := x % f.Den * f.Num
	result := whole + part/f.Den
	rest := part % f.Den
	step := roundingStep(result, rest, f.Den, mode)
	result += step
	if !amount.Valid(result) {
		return 0, Fraction{}, api.ErrOverflow
	}
	remainder, e := New(rest-step*f.Den, f.Den)
	return result, remainder, e
}

// String returns the text form of a fraction.
func (f Fraction) String() string {
	if f.Check() != api.OK {
		return ""
	}
	num := strconv.FormatInt(f.Num, 10)
	if f.Den == 1 {
		return num
	}
	return num + "/" + strconv.FormatInt(f.Den, 10)
}

// Parse parses the text form of a fraction.
func Parse(s string) (Fraction, api.Errno) {
	if len(s) > maxText {
		return Fraction{}, api.ErrLong
	}
	f := Fraction{Den: 1}
	num, den, found := strings.Cut(s, "/")
	f.Num, _ = strconv.ParseInt(num, 10, 64)
	if found {
		f.Den, _ = strconv.ParseInt(den, 10, 64)
	}
	// Whatever the conversions refuse, or accept beyond the text form, does not print as s.
	if f.String() != s {
		return Fraction{}, api.ErrFormat
	}
	return f, api.OK
}

// Split divides a total in proportion to weights by the largest remainder method.
func Split(total int64, weights []int64) ([]int64, api.Errno) {
	sum, e := sumWeights(weights)
	if e != api.OK {
		return nil, e
	}
	if !amount.Valid(sum) || !amount.Valid(total) {
		return nil, api.ErrOverflow
	}
	parts, e := shares(max(total, -total), weights, sum)
	if e != api.OK {
		return nil, e
	}
	if total < 0 {
		for i := range parts {
			parts[i] = -parts[i]
		}
	}
	return parts, api.OK
}

// roundingStep returns what is to be added to a quotient towards zero, whose remainder is rest/den, to round it by a mode.
func roundingStep(quotient, rest, den int64, mode int) int64 {
	direction := int64(cmp.Compare(rest, 0))
	steps := [amount.NumModes]func() int64{
		amount.Floor: func() int64 { return min(direction, 0) },
		amount.Ceil:  func() int64 { return max(direction, 0) },
		amount.HalfEven: func() int64 {
			twice := 2 * rest * direction
			if twice > den || twice == den && quotient%2 != 0 {
				return direction
			}
			return 0
		},
		amount.Down: func() int64 { return 0 },
	}
	return steps[mode]()
}

// sumWeights returns the sum of the weights, which fits into 64 bits even where it is not an amount.
func sumWeights(weights []int64) (int64, api.Errno) {
	if len(weights) == 0 {
		return 0, api.ErrArgument
	}
	if len(weights) > maxWeights {
		return 0, api.ErrLimit
	}
	var sum int64
	for _, w := range weights {
		if w < 0 || !amount.Valid(w) {
			return 0, api.ErrRange
		}
		sum += w
	}
	if sum == 0 {
		return 0, api.ErrRange
	}
	return sum, api.OK
}

// shares divides a total that is not negative in proportion to weights with a given sum.
func shares(total int64, weights []int64, sum int64) ([]int64, api.Errno) {
	parts := make([]int64, len(weights))
	remainders := make([]int64, len(weights))
	order := make([]int, len(weights))
	left := total
	for i, w := range weights {
		part, remainder, e := amount.MulRem(total, w, sum)
		if e != api.OK {
			return nil, e
		}
		parts[i], remainders[i], order[i] = part, remainder, i
		left -= part
	}
	slices.SortFunc(order, func(i, j int) int {
		return cmp.Or(cmp.Compare(remainders[j], remainders[i]), cmp.Compare(i, j))
	})
	for _, i := range order[:left] {
		parts[i]++
	}
	return parts, api.OK
}

// checkBoth returns the first error of two fractions.
func checkBoth(a, b Fraction) api.Errno {
	if e := a.Check(); e != api.OK {
		return e
	}
	return b.Check()
}

// magnitude returns the absolute value of x; that of the smallest int64 fits only because it is unsigned.
func magnitude(x int64) uint64 {
	if x < 0 {
		return -uint64(x)
	}
	return uint64(x)
}

// gcd returns the greatest common divisor of two numbers, of which one may be 0.
func gcd(a, b uint64) uint64 {
	for b != 0 {
		a, b = b, a%b
	}
	return a
}
