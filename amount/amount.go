// Package amount implements checked arithmetic on amounts of money in minor units. It is layer 1: see shared/doc/01-amount.md.
package amount

import (
	"math/bits"
	"strconv"
	"strings"

	"giro/api"
)

// Rounding modes.
const (
	Floor    = 0 // towards negative infinity
	Ceil     = 1 // towards positive infinity
	HalfEven = 2 // to the nearest integer, ties to the even one
	Down     = 3 // towards zero
	NumModes = 4
)

// Valid reports whether x is within +-api.MaxAmount.
func Valid(x int64) bool { return -api.MaxAmount <= x && x <= api.MaxAmount }

// Add returns a + b.
func Add(a, b int64) (int64, api.Errno) { return Sum(a, b) }

// Sub returns a - b. Sum refuses an invalid b, because its negative is invalid too: that of the smallest int64 is itself.
func Sub(a, b int64) (int64, api.Errno) { return Sum(a, -b) }

// Neg returns -a.
func Neg(a int64) (int64, api.Errno) { return Sum(-a) }

// Sum returns the sum of all arguments. It adds words of 128 bits, because an intermediate sum of many amounts may exceed 64 bits.
func Sum(l ...int64) (int64, api.Errno) {
	var high, low, carry uint64
	for _, x := range l {
		if !Valid(x) {
			return 0, api.ErrRange
		}
		low, carry = bits.Add64(low, uint64(x), 0)
		high, _ = bits.Add64(high, uint64(x>>63), carry)
	}
	total := int64(low)
	if high != uint64(total>>63) {
		return 0, api.ErrOverflow
	}
	return bounded(total)
}

// MulDiv returns x * num / den, rounded.
func MulDiv(x, num, den int64, mode int) (int64, api.Errno) {
	if mode < 0 || mode >= NumModes {
		return 0, api.ErrKind
	}
	q, e := divide(x, num, den)
	if e != api.OK {
		return 0, e
	}
	return bounded(q.round(mode))
}

// MulRem returns the quotient and the nonnegative remainder of x * num divided by den.
func MulRem(x, num, den int64) (int64, int64, api.Errno) {
	q, e := divide(x, num, den)
	if e != api.OK {
		return 0, 0, e
	}
	floor, e := bounded(q.round(Floor))
	if e != api.OK {
		return 0, 0, e
	}
	rest := int64(q.rest)
	if q.negative && rest > 0 {
		rest = den - rest
	}
	return floor, rest, api.OK
}

// Format returns an amount in major units with two decimals.
func Format(x int64) (string, api.Errno) {
	if !Valid(x) {
		return "", api.ErrRange
	}
	sign := ""
	if x < 0 {
		sign = "-"
	}
	size := magnitude(x)
	cents := string([]byte{'0' + byte(size/10%10), '0' + byte(size%10)})
	return sign + strconv.FormatUint(size/100, 10) + "." + cents, api.OK
}

// Parse returns the amount with the given text.
func Parse(s string) (int64, api.Errno) {
	digits, negative := strings.CutPrefix(s, "-")
	whole, cents, _ := strings.Cut(digits, ".")
	if !isWhole(whole) || len(cents) != 2 || !allDigits(cents) || s == "-0.00" {
		return 0, api.ErrFormat
	}
	var x int64
	for _, c := range []byte(whole + cents) {
		x = x*10 + int64(c-'0')
		if !Valid(x) {
			return 0, api.ErrOverflow
		}
	}
	if negative {
		x = -x
	}
	return x, api.OK
}

// quotient is an exact quotient, split into its size without the fractional part and the rest that remains of the divisor.
type quotient struct {
	negative        bool
	size, rest, den uint64
}

// divide returns the quotient of x * num and den. No mode rounds to a size below that without the fractional part, so it may refuse a quotient before it is rounded.
func divide(x, num, den int64) (quotient, api.Errno) {
	if !Valid(x) || !Valid(num) || den < 1 || den > api.MaxAmount {
		return quotient{}, api.ErrRange
	}
	high, low := bits.Mul64(magnitude(x), magnitude(num))
	divisor := uint64(den)
	// Div64 panics if the quotient has more than 64 bits.
	if high >= divisor {
		return quotient{}, api.ErrOverflow
	}
	size, rest := bits.Div64(high, low, divisor)
	if size > api.MaxAmount {
		return quotient{}, api.ErrOverflow
	}
	return quotient{(x < 0) != (num < 0), size, rest, divisor}, api.OK
}

// round returns the integer that a mode selects; it may be one beyond the bounds.
func (q quotient) round(mode int) int64 {
	// The functions tell whether a quotient with a fractional part moves away from zero.
	away := [NumModes]func() bool{
		Floor:    func() bool { return q.negative },
		Ceil:     func() bool { return !q.negative },
		HalfEven: func() bool { return 2*q.rest > q.den || 2*q.rest == q.den && q.size%2 == 1 },
		Down:     func() bool { return false },
	}
	x := int64(q.size)
	if q.rest > 0 && away[mode]() {
		x++
	}
	if q.negative {
		return -x
	}
	return x
}

// bounded returns x, or an error if it is not valid.
func bounded(x int64) (int64, api.Errno) {
	if !Valid(x) {
		return 0, api.ErrOverflow
	}
	return x, api.OK
}

// magnitude returns the absolute value of x.
func magnitude(x int64) uint64 {
	if x < 0 {
		return uint64(-x)
	}
	return uint64(x)
}

// isWhole reports whether s is a number without superfluous leading zeros.
func isWhole(s string) bool {
	return s != "" && allDigits(s) && (s[0] != '0' || len(s) == 1)
}

// allDigits reports whether s consists of digits.
func allDigits(s string) bool {
	for _, c := range []byte(s) {
		if c < '0' || c > '9' {
			return false
		}
	}
	return true
}
