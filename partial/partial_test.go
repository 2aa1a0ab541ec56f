package partial_test

import (
	"math"
	"math/big"
	"testing"

	"giro/api"
	"giro/matching"
	"giro/message"
	"giro/partial"
)

type trade = matching.Trade

const most = int64(api.MaxAmount)

func dvp(quantity, amount, lot int64) trade {
	return trade{Kind: message.DvP, Deliverer: "BANKA", Receiver: "BANKB", Asset: "US0378331005", Quantity: quantity, Amount: amount, SettleDay: 5, Priority: 1, Partial: lot > 0, MinLot: lot, Refs: [2]string{"D", "R"}}
}

func free(quantity, lot int64) trade {
	t := dvp(quantity, 0, lot)
	t.Kind = message.Free
	return t
}

// cash returns the cash of a part exactly.
func cash(t trade, n int64) int64 {
	x := new(big.Int).Mul(big.NewInt(t.Amount), big.NewInt(n))
	return x.Div(x, big.NewInt(t.Quantity)).Int64()
}

func isPart(t trade, n int64) bool {
	return n > 0 && n < t.Quantity && n%t.MinLot == 0 && (t.Kind == message.Free || cash(t, n) > 0)
}

// P37.1
func TestAllowedCash(t *testing.T) {
	bad := dvp(100, 999, 10)
	bad.Deliverer = ""
	for n, x := range []struct {
		t  trade
		ok bool
		e  api.Errno
	}{{dvp(100, 999, 10), true, api.OK}, {dvp(100, 999, 99), true, api.OK}, {dvp(100, 999, 100), false, api.OK}, {dvp(100, 999, 0), false, api.OK}, {free(2, 1), true, api.OK}, {bad, false, api.ErrUnknown}, {trade{}, false, api.ErrKind}} {
		if partial.Allowed(x.t) != x.ok {
			t.Error("Allowed", n)
		}
		for _, part := range []int64{-1, 0, 1, 7, 99, 100, 101, math.MinInt64, math.MaxInt64} {
			want, e := int64(0), x.e
			if e == api.OK && (part < 1 || part > x.t.Quantity) {
				e = api.ErrRange
			} else if e == api.OK {
				want = cash(x.t, part)
			}
			if got, gotE := partial.Cash(x.t, part); got != want || gotE != e {
				t.Error("Cash", n, part, got, gotE, "want", want, e)
			}
		}
		if x.ok {
			continue
		}
		if x.e == api.OK {
			x.e = api.ErrState
		}
		largest, e1 := partial.Largest(x.t, 50, 500)
		a, b, e2 := partial.Split(x.t, 0)
		if largest != 0 || e1 != x.e || a != (trade{}) || b != (trade{}) || e2 != x.e {
			t.Error("trade that cannot be split", n, e1, e2)
		}
	}
	if got, e := partial.Cash(dvp(most, most-1, 1), most-1); got != most-2 || e != api.OK {
		t.Error("large numbers", got, e)
	}
}

// P37.2 P37.4
func TestLargest(t *testing.T) {
	for _, x := range []trade{dvp(100, 999, 10), dvp(100, 3, 10), dvp(100, 1, 1), dvp(7, 1000, 2), dvp(30, 29, 1), free(100, 30), dvp(100, 50, 33)} {
		for held := int64(-2); held <= 103; held += 3 {
			for _, room := range []int64{math.MinInt64, -1, 0, 1, 2, 3, 29, 99, 299, 300, 400, 998, 999, 2000, math.MaxInt64} {
				want := int64(0)
				for n := int64(1); n < x.Quantity; n++ {
					if isPart(x, n) && n <= held && (x.Kind == message.Free || cash(x, n) <= room) {
						want = n
					}
				}
				if got, e := partial.Largest(x, held, room); got != want || e != api.OK {
					t.Error("Largest", x.Quantity, x.Amount, x.MinLot, held, room, got, e, "want", want)
				}
			}
		}
	}
	if got, e := partial.Largest(dvp(most, most, 1), math.MaxInt64, math.MaxInt64); got != most-1 || e != api.OK {
		t.Error("large numbers", got, e)
	}
	if got, e := partial.Largest(dvp(most, most, 1), math.MinInt64, math.MaxInt64); got != 0 || e != api.OK {
		t.Error("small number", got, e)
	}
}

// P37.3 P37.4
func TestSplit(t *testing.T) {
	for _, x := range []trade{dvp(100, 999, 10), dvp(100, 3, 10), dvp(25, 100, 10), free(100, 30), dvp(20, 7, 10)} {
		for part := int64(-1); part <= x.Quantity+1; part++ {
			a, b, e := partial.Split(x, part)
			if !isPart(x, part) {
				if a != (trade{}) || b != (trade{}) || e != api.ErrRange {
					t.Error("Split", part, e)
				}
				continue
			}
			wantA, wantB := x, x
			wantA.Quantity, wantA.Amount, wantA.Partial, wantA.MinLot = part, cash(x, part), false, 0
			wantB.Quantity, wantB.Amount = x.Quantity-part, x.Amount-wantA.Amount
			if wantB.Quantity < x.MinLot {
				wantB.Partial, wantB.MinLot = false, 0
			}
			if a != wantA || b != wantB || e != api.OK || a.Check() != api.OK || b.Check() != api.OK {
				t.Error("Split", part, a, b, e)
			}
			// The price of the rest is not less, and that of the part not more: cross products.
			if b.Amount*x.Quantity < x.Amount*b.Quantity || a.Amount*x.Quantity > x.Amount*a.Quantity {
				t.Error("prices", part)
			}
		}
	}
}

// P37.3 P37.4
func TestSequence(t *testing.T) {
	x := dvp(100, 999, 10)
	l, e := partial.Sequence(x, []int64{30, 10, 50})
	if e != api.OK || len(l) != 4 {
		t.Fatal(l, e)
	}
	var quantity, amount, early int64
	for n, y := range l {
		quantity, amount = quantity+y.Quantity, amount+y.Amount
		if n < 3 {
			early += y.Amount
		}
	}
	if quantity != 100 || amount != 999 || l[0].Quantity != 30 || l[0].Amount != 299 || l[1].Amount != 100 || l[3].Quantity != 10 || !l[3].Partial {
		t.Error(l)
	}
	// 90 units have the proportional share 899.1; three parts have less than 3 less.
	if early*100 <= 999*90-3*100 {
		t.Error("cash of the parts", early)
	}
	bad := x
	bad.Refs[0] = ""
	for n, y := range []struct {
		t     trade
		parts []int64
		e     api.Errno
	}{
		{bad, make([]int64, 65), api.ErrUnknown}, {x, make([]int64, 65), api.ErrLimit}, {x, make([]int64, 64), api.ErrRange}, {x, []int64{30, 10, 70}, api.ErrRange}, {x, []int64{90, 10}, api.ErrState}, {dvp(100, 999, 0), []int64{10}, api.ErrState},
	} {
		if l, e := partial.Sequence(y.t, y.parts); len(l) != 0 || e != y.e {
			t.Error("Sequence", n, l, e)
		}
	}
	for _, y := range []trade{x, dvp(5, 5, 0)} {
		if l, e := partial.Sequence(y, nil); len(l) != 1 || l[0] != y || e != api.OK {
			t.Error("no parts", l, e)
		}
	}
	many := make([]int64, partial.MaxParts)
	for n := range many {
		many[n] = 1
	}
	if l, e := partial.Sequence(dvp(100, 100, 1), many); len(l) != 65 || e != api.OK {
		t.Error("most parts", len(l), e)
	}
}

// Example 1
func TestExample(t *testing.T) {
	x := dvp(100, 999, 10)
	c, _ := partial.Cash(x, 30)
	n, _ := partial.Largest(x, 47, 350)
	_, rest, _ := partial.Split(x, 30)
	if c != 299 || n != 30 || rest.Quantity != 70 || rest.Amount != 700 {
		t.Error(c, n, rest)
	}
}
