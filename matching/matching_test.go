package matching_test

import (
	"math"
	"slices"
	"testing"

	"giro/api"
	"giro/matching"
	"giro/message"
)

type (
	instruction = message.Instruction
	trade       = matching.Trade
)

const (
	isin = "US0378331005"
	most = int64(api.MaxAmount)
)

// sides returns a delivery of BANKA and the receipt of BANKB.
func sides() (instruction, instruction) {
	a := instruction{Ref: "D1", Kind: message.DvP, Sender: "BANKA", Counterparty: "BANKB", Asset: isin, Quantity: 100, Amount: 2500000, TradeDay: 10, SettleDay: 12}
	b := a
	b.Ref, b.Sender, b.Counterparty, b.Side = "R1", "BANKB", "BANKA", message.Receive
	return a, b
}

func agreed() trade {
	return trade{Kind: message.DvP, Deliverer: "BANKA", Receiver: "BANKB", Asset: isin, Quantity: 100, Amount: 2500000, TradeDay: 10, SettleDay: 12, Refs: [2]string{"D1", "R1"}}
}

// P23.1 P23.2 P23.7
func TestFields(t *testing.T) {
	for _, x := range []struct {
		set    func(b *instruction)
		fields []int
	}{
		{func(b *instruction) {}, nil},
		{func(b *instruction) { b.Kind, b.Amount = message.Free, 0 }, []int{matching.FieldKind, matching.FieldAmount}},
		{func(b *instruction) { b.Side = message.Deliver }, []int{matching.FieldSide}},
		{func(b *instruction) { b.Counterparty = "BANKC" }, []int{matching.FieldCounterparty}},
		{func(b *instruction) { b.Sender = "BANKC" }, []int{matching.FieldCounterparty}},
		{func(b *instruction) { b.Sender, b.Counterparty = "BANKA", "BANKB" }, []int{matching.FieldCounterparty}},
		{func(b *instruction) { b.Asset = "XS0000000009" }, []int{matching.FieldAsset}},
		{func(b *instruction) { b.Quantity++ }, []int{matching.FieldQuantity}},
		{func(b *instruction) { b.Amount++ }, []int{matching.FieldAmount}},
		{func(b *instruction) { b.Amount-- }, []int{matching.FieldAmount}},
		{func(b *instruction) { b.TradeDay-- }, []int{matching.FieldTradeDay}},
		{func(b *instruction) { b.SettleDay++ }, []int{matching.FieldSettleDay}},
		{func(b *instruction) { b.Quantity, b.Amount, b.TradeDay, b.SettleDay = 1, 1, 1, 1 }, []int{4, 5, 6, 7}},
		{func(b *instruction) { b.Priority, b.Hold, b.Links = 2, true, []message.Link{{Type: 0, Ref: "X"}} }, nil},
	} {
		a, b := sides()
		x.set(&b)
		for _, pair := range [][2]instruction{{a, b}, {b, a}} {
			got, e := matching.Compare(pair[0], pair[1], 0)
			if !slices.Equal(got, x.fields) || e != api.OK {
				t.Error("Compare", got, e, "want", x.fields)
			}
			m, e := matching.Match(pair[0], pair[1], 0)
			if len(x.fields) > 0 && (m != trade{} || e != api.ErrMismatch) || len(x.fields) == 0 && e != api.OK {
				t.Error("Match", m, e)
			}
		}
	}
}

// P23.1 P23.2
func TestErrors(t *testing.T) {
	a, b := sides()
	bad, worse, pay := a, b, instruction{Ref: "P", Sender: "BANKB", Counterparty: "BANKA", Asset: api.Cash, Amount: 1}
	bad.Quantity, worse.Ref = 0, ""
	for _, x := range []struct {
		a, b      instruction
		tolerance int64
		e         api.Errno
	}{
		{bad, worse, -1, api.ErrRange}, {a, b, most + 1, api.ErrRange}, {a, b, math.MinInt64, api.ErrRange}, {bad, worse, 0, api.ErrRange}, {worse, bad, 0, api.ErrUnknown}, {a, worse, 0, api.ErrUnknown},
		{pay, worse, 0, api.ErrUnknown}, {pay, b, 0, api.ErrKind}, {a, pay, 0, api.ErrKind}, {a, b, most, api.OK},
	} {
		l, e := matching.Compare(x.a, x.b, x.tolerance)
		if len(l) != 0 || e != x.e {
			t.Error("Compare", l, e, "want", x.e)
		}
		m, e := matching.Match(x.a, x.b, x.tolerance)
		if (m == trade{}) != (e != api.OK) || e != x.e {
			t.Error("Match", m, e, "want", x.e)
		}
	}
}

// P23.2
func TestMatch(t *testing.T) {
	a, b := sides()
	b.Amount += 2
	want := agreed()
	for _, x := range []struct {
		set func()
	}{
		{func() {}},
		{func() { a.Priority, want.Priority = 1, 1 }},
		{func() { b.Priority, want.Priority = 2, 2 }},
		{func() { a.Partial, a.MinLot = true, 10 }},
		{func() { b.Partial, b.MinLot, want.Partial, want.MinLot = true, 7, true, 10 }},
		{func() { b.MinLot, want.MinLot = 12, 12 }},
		{func() { a.Partial, a.MinLot, want.Partial, want.MinLot = false, 0, false, 0 }},
		{func() { a.Kind, a.Amount, b.Kind, b.Amount, want.Kind, want.Amount = 2, 0, 2, 0, 2, 0 }},
	} {
		x.set()
		for _, pair := range [][2]instruction{{a, b}, {b, a}} {
			got, e := matching.Match(pair[0], pair[1], 2)
			if got != want || e != api.OK {
				t.Errorf("Match = %+v, %d, want %+v", got, e, want)
			}
			if got.Check() != api.OK || got.Id() != "BANKA/D1" {
				t.Error("trade", got.Check(), got.Id())
			}
			p, q := got.Instructions()
			again, e := matching.Match(p, q, 0)
			if again != got || e != api.OK || p.Sender != "BANKA" {
				t.Error("Instructions", again, e)
			}
		}
	}
}

// P23.3
func TestBest(t *testing.T) {
	a, b := sides()
	with := func(ref string, d int64) instruction { c := b; c.Ref, c.Amount = ref, b.Amount+d; return c }
	bad := b
	bad.Ref = ""
	other := b
	other.Quantity++
	for n, x := range []struct {
		l         []instruction
		tolerance int64
		best      int
		found     bool
	}{
		{nil, 5, 0, false}, {[]instruction{bad, other, a}, most, 0, false}, {[]instruction{with("1", 6)}, 5, 0, false}, {[]instruction{bad, with("1", 5)}, 5, 1, true},
		{[]instruction{with("1", 3), with("2", -2), with("3", 2)}, 5, 1, true}, {[]instruction{with("1", 3), with("2", 2), with("3", -2), with("4", 1)}, 5, 3, true},
		{[]instruction{with("1", 0), with("2", 0)}, 0, 0, true}, {[]instruction{b}, -1, 0, false}, {[]instruction{b}, most + 1, 0, false}, {[]instruction{with("1", 1-b.Amount), with("2", -7)}, most, 1, true},
	} {
		if best, found := matching.Best(a, x.l, x.tolerance); best != x.best || found != x.found {
			t.Error("case", n, best, found)
		}
	}
	huge := b
	huge.Amount = math.MinInt64
	if _, found := matching.Best(a, []instruction{huge}, 5); found {
		t.Error("invalid amount")
	}
	if _, found := matching.Best(bad, []instruction{a}, 5); found {
		t.Error("invalid instruction")
	}
}

// P23.4
func TestFieldName(t *testing.T) {
	names := []string{"kind", "side", "counterparty", "asset", "quantity", "amount", "trade day", "settlement day"}
	for n := -2; n < matching.Fields+2; n++ {
		want := ""
		if n >= 0 && n < len(names) {
			want = names[n]
		}
		if matching.FieldName(n) != want {
			t.Error(n, matching.FieldName(n))
		}
	}
}

// P23.5 P23.6
func TestCheck(t *testing.T) {
	for n, x := range []struct {
		set func(x *trade)
		e   api.Errno
	}{
		{func(x *trade) {}, api.OK},
		{func(x *trade) { x.Kind = message.Payment; x.Deliverer = "" }, api.ErrKind}, {func(x *trade) { x.Kind = message.Pledge }, api.ErrKind},
		{func(x *trade) { x.Deliverer, x.Asset = "CB", "" }, api.ErrUnknown}, {func(x *trade) { x.Receiver = "" }, api.ErrUnknown},
		{func(x *trade) { x.Receiver, x.Asset = "BANKA", "" }, api.ErrArgument}, {func(x *trade) { x.Asset, x.Quantity = api.Cash, 0 }, api.ErrUnknown},
		{func(x *trade) { x.Quantity, x.SettleDay = 0, -1 }, api.ErrRange}, {func(x *trade) { x.Quantity = most + 1 }, api.ErrRange}, {func(x *trade) { x.Quantity = most }, api.OK},
		{func(x *trade) { x.Amount, x.SettleDay = 0, -1 }, api.ErrRange}, {func(x *trade) { x.Amount = most + 1 }, api.ErrRange}, {func(x *trade) { x.Amount = most }, api.OK},
		{func(x *trade) { x.Kind = message.Free }, api.ErrRange}, {func(x *trade) { x.Kind, x.Amount = message.Free, 0 }, api.OK},
		{func(x *trade) { x.SettleDay, x.TradeDay, x.Priority = -1, -1, 9 }, api.ErrDate}, {func(x *trade) { x.SettleDay = 73049 }, api.ErrDate}, {func(x *trade) { x.TradeDay = 13 }, api.ErrDate}, {func(x *trade) { x.TradeDay = -1 }, api.ErrDate},
		{func(x *trade) { x.TradeDay, x.SettleDay = 73048, 73048 }, api.OK}, {func(x *trade) { x.Priority, x.Refs[0] = -1, "" }, api.ErrRange}, {func(x *trade) { x.Priority = 3 }, api.ErrRange}, {func(x *trade) { x.Priority = 2 }, api.OK},
		{func(x *trade) { x.MinLot, x.Refs[0] = 1, "" }, api.ErrRange}, {func(x *trade) { x.Partial = true }, api.ErrRange}, {func(x *trade) { x.Partial, x.MinLot = true, 101 }, api.ErrRange}, {func(x *trade) { x.Partial, x.MinLot = true, 100 }, api.OK},
		{func(x *trade) { x.Quantity, x.Amount = 1, 1 }, api.OK}, {func(x *trade) { x.TradeDay, x.SettleDay = 0, 0 }, api.OK}, {func(x *trade) { x.Partial, x.MinLot = true, 1 }, api.OK},
		{func(x *trade) { x.Refs[0] = "" }, api.ErrUnknown}, {func(x *trade) { x.Refs[1] = "a" }, api.ErrUnknown},
	} {
		y := agreed()
		x.set(&y)
		if e := y.Check(); e != x.e {
			t.Error("case", n, e, "want", x.e)
		}
		a, b := y.Instructions()
		if (x.e != api.OK) != (message.Equal(a, instruction{}) && message.Equal(b, instruction{})) {
			t.Error("Instructions of case", n)
		}
	}
	if id := (trade{Deliverer: "x", Refs: [2]string{"", "y"}}).Id(); id != "x/" {
		t.Error("Id of an invalid trade", id)
	}
}

// P23.6
func TestInstructions(t *testing.T) {
	x := agreed()
	x.Priority, x.Partial, x.MinLot = 1, true, 5
	a, b := x.Instructions()
	wantA, wantB := sides()
	for _, i := range []*instruction{&wantA, &wantB} {
		i.Priority, i.Partial, i.MinLot = 1, true, 5
	}
	if !message.Equal(a, wantA) || !message.Equal(b, wantB) {
		t.Error(a, b)
	}
}

// Example 1
func TestExample(t *testing.T) {
	a, b := sides()
	b.Amount = 2500002
	x, e := matching.Match(b, a, 2)
	l, _ := matching.Compare(a, b, 1)
	if x.Amount != 2500000 || e != api.OK || !slices.Equal(l, []int{5}) {
		t.Error(x, e, l)
	}
}
