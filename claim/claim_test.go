package claim_test

import (
	"slices"
	"strconv"
	"testing"

	"giro/api"
	"giro/claim"
	"giro/corpaction"
	"giro/fraction"
	"giro/matching"
	"giro/message"
)

const (
	isin = "US0378331005"
	into = "XS0000000009"
	most = int64(api.MaxAmount)
)

func frac(num, den int64) fraction.Fraction { f, _ := fraction.New(num, den); return f }

func event(kind int) corpaction.Event {
	e := corpaction.Event{Id: "E1", Kind: kind, Issuer: "ISSUER", Asset: isin, ExDay: 100, RecordDay: 101, PayDay: 105}
	switch kind {
	case corpaction.Dividend, corpaction.Redemption:
		e.Cash = frac(1, 2)
	case corpaction.Split:
		e.Ratio, e.Price = frac(3, 2), 100
	case corpaction.Merger:
		e.Into, e.Ratio, e.Cash = into, frac(1, 4), frac(1, 2)
	case corpaction.Rights:
		e.Into, e.Ratio, e.Price = into, frac(1, 4), 8
	}
	return e
}

func trade(quantity int64, day int) matching.Trade {
	return matching.Trade{Kind: message.DvP, Deliverer: "BANKA", Receiver: "BANKB", Asset: isin, Quantity: quantity, Amount: 500, TradeDay: day, SettleDay: max(day, 101), Refs: [2]string{"D1", "R1"}}
}

// P45.1
func TestKind(t *testing.T) {
	bad, wrong := event(corpaction.Dividend), trade(31, 99)
	bad.PayDay = 1
	wrong.Refs[0] = ""
	other := trade(31, 99)
	other.Asset = into
	for n, x := range []struct {
		e       corpaction.Event
		t       matching.Trade
		settled int
		kind    int
		code    api.Errno
	}{
		{bad, wrong, -2, 0, api.ErrDate}, {event(0), wrong, -2, 0, api.ErrUnknown}, {event(0), other, -2, 0, api.ErrMismatch}, {event(0), trade(31, 99), -2, 0, api.ErrDate}, {event(0), trade(31, 99), 98, 0, api.ErrDate}, {event(0), trade(31, 99), 73049, 0, api.ErrDate},
		{event(0), trade(31, 99), -1, claim.Market, api.OK}, {event(0), trade(31, 99), 102, claim.Market, api.OK}, {event(0), trade(31, 99), 101, claim.None, api.OK}, {event(0), trade(31, 99), 99, claim.None, api.OK},
		{event(0), trade(31, 100), 101, claim.Reverse, api.OK}, {event(0), trade(31, 100), 100, claim.Reverse, api.OK}, {event(0), trade(31, 100), 102, claim.None, api.OK}, {event(0), trade(31, 100), -1, claim.None, api.OK},
		{event(corpaction.Rights), trade(31, 99), -1, claim.Market, api.OK}, {event(corpaction.Split), trade(31, 99), -1, claim.None, api.OK}, {event(corpaction.Merger), trade(31, 99), -1, claim.None, api.OK}, {event(corpaction.Redemption), trade(31, 100), 101, claim.None, api.OK},
	} {
		if kind, code := claim.Kind(x.e, x.t, x.settled); kind != x.kind || code != x.code {
			t.Error("Kind", n, kind, code)
		}
		c, is, code := claim.Compute(x.e, x.t, x.settled)
		if code != x.code || is != (x.kind != claim.None) || !is && c != (claim.Claim{}) {
			t.Error("Compute", n, c, is, code)
		}
	}
}

// P45.1 P45.6
func TestCompute(t *testing.T) {
	want := claim.Claim{Event: "E1", Trade: "BANKA/D1", From: "BANKA", To: "BANKB", Cash: 15, Day: 105}
	if c, is, e := claim.Compute(event(0), trade(31, 99), -1); c != want || !is || e != api.OK {
		t.Error(c, is, e)
	}
	want.From, want.To = "BANKB", "BANKA"
	if c, is, e := claim.Compute(event(0), trade(31, 100), 101); c != want || !is || e != api.OK {
		t.Error(c, is, e)
	}
	want = claim.Claim{Event: "E1", Trade: "BANKA/D1", From: "BANKA", To: "BANKB", Asset: into, Quantity: 7, Cash: 6, Day: 105}
	if c, is, e := claim.Compute(event(corpaction.Rights), trade(31, 99), -1); c != want || !is || e != api.OK {
		t.Error(c, is, e)
	}
	want.Quantity, want.Cash = 1, 0
	if c, is, e := claim.Compute(event(corpaction.Rights), trade(4, 99), -1); c != want || !is || e != api.OK {
		t.Error("one unit", c, is, e)
	}
	want.Quantity, want.Cash, want.Asset = 0, 6, ""
	if c, is, e := claim.Compute(event(corpaction.Rights), trade(3, 99), -1); c != want || !is || e != api.OK {
		t.Error("fraction only", c, is, e)
	}
	if c, is, e := claim.Compute(event(0), trade(1, 99), -1); c != (claim.Claim{}) || is || e != api.OK {
		t.Error("nothing", c, is, e)
	}
	rich := event(0)
	rich.Cash = frac(2, 1)
	if c, is, e := claim.Compute(rich, trade(most, 99), -1); c != (claim.Claim{}) || is || e != api.ErrOverflow {
		t.Error("overflow", c, is, e)
	}
	if _, is, e := claim.Compute(rich, trade(most, 99), 101); is || e != api.OK {
		t.Error("outcomes are not asked without a claim", is, e)
	}
}

// P45.2
func TestInstructions(t *testing.T) {
	c := claim.Claim{Event: "E1", Trade: "BANKA/D1", From: "BANKA", To: "BANKB", Asset: into, Quantity: 7, Cash: 6, Day: 105}
	i, e := c.Payment("P")
	want := message.Instruction{Ref: "P", Kind: message.Payment, Sender: "BANKA", Counterparty: "BANKB", Asset: api.Cash, Amount: 6, SettleDay: 105}
	if !message.Equal(i, want) || e != api.OK {
		t.Error(i, e)
	}
	d, e := c.Delivery([2]string{"A", "B"})
	if d != (matching.Trade{Kind: message.Free, Deliverer: "BANKA", Receiver: "BANKB", Asset: into, Quantity: 7, TradeDay: 105, SettleDay: 105, Refs: [2]string{"A", "B"}}) || e != api.OK {
		t.Error(d, e)
	}
	for n, x := range []struct {
		change func(c *claim.Claim)
		ref    string
		e1, e2 api.Errno
	}{
		{func(c *claim.Claim) { c.Cash, c.Quantity = 0, 0 }, "", api.ErrState, api.ErrState}, {func(c *claim.Claim) {}, "", api.ErrUnknown, api.ErrUnknown}, {func(c *claim.Claim) { c.Cash, c.Quantity = -1, -1 }, "P", api.ErrRange, api.ErrRange}, {func(c *claim.Claim) { c.To = "BANKA" }, "P", api.ErrArgument, api.ErrArgument}, {func(c *claim.Claim) { c.Day = -1 }, "P", api.ErrDate, api.ErrDate}, {func(c *claim.Claim) { *c = claim.Claim{Cash: 1, Quantity: 1} }, "P", api.ErrUnknown, api.ErrUnknown},
	} {
		y := c
		x.change(&y)
		i, e1 := y.Payment(x.ref)
		d, e2 := y.Delivery([2]string{x.ref, x.ref})
		if !message.Equal(i, message.Instruction{}) || d != (matching.Trade{}) || e1 != x.e1 || e2 != x.e2 {
			t.Error("case", n, e1, e2)
		}
	}
}

// P45.3
func TestTransform(t *testing.T) {
	part := trade(30, 99)
	part.Partial, part.MinLot = true, 20
	free := trade(30, 99)
	free.Kind, free.Amount = message.Free, 0
	poor := trade(30, 99)
	poor.Amount = 15
	for n, x := range []struct {
		e       corpaction.Event
		t, want matching.Trade
	}{
		{event(corpaction.Split), trade(31, 99), func() matching.Trade { t := trade(46, 99); return t }()},
		{event(corpaction.Merger), trade(31, 99), func() matching.Trade { t := trade(7, 99); t.Asset, t.Amount = into, 485; return t }()},
		{event(corpaction.Merger), part, func() matching.Trade { t := part; t.Asset, t.Quantity, t.Amount, t.MinLot = into, 7, 485, 7; return t }()},
		{event(corpaction.Merger), free, func() matching.Trade { t := free; t.Asset, t.Quantity = into, 7; return t }()},
		{event(corpaction.Merger), poor, func() matching.Trade {
			t := poor
			t.Asset, t.Quantity, t.Amount, t.Kind = into, 7, 0, message.Free
			return t
		}()},
	} {
		if got, e := claim.Transform(x.e, x.t); got != x.want || e != api.OK || got.Check() != api.OK {
			t.Error("Transform", n, got, e)
		}
	}
	bad, wrong, other := event(corpaction.Split), trade(31, 99), trade(31, 99)
	bad.Id, wrong.Refs[0], other.Asset = "", "", into
	for n, x := range []struct {
		e    corpaction.Event
		t    matching.Trade
		code api.Errno
	}{
		{bad, wrong, api.ErrUnknown}, {event(0), wrong, api.ErrUnknown}, {event(0), other, api.ErrKind}, {event(corpaction.Rights), trade(31, 99), api.ErrKind}, {event(corpaction.Split), other, api.ErrMismatch}, {event(corpaction.Split), trade(31, 100), api.ErrState}, {event(corpaction.Split), trade(most, 99), api.ErrOverflow}, {event(corpaction.Merger), trade(3, 99), api.ErrRange},
	} {
		if got, code := claim.Transform(x.e, x.t); got != (matching.Trade{}) || code != x.code {
			t.Error("error", n, code, "want", x.code)
		}
	}
}

// P45.4 P45.5
func TestBook(t *testing.T) {
	b := claim.NewBook()
	add := func(id, ref string, kind, day int, want api.Errno) {
		t.Helper()
		e, x := event(kind), trade(31, 99)
		e.Id, e.PayDay, x.Refs[0] = id, day, ref
		before := b.Clone()
		c, is, code := b.Add(e, x, -1)
		if code != want || is != (want == api.OK) || want != api.OK && (c != (claim.Claim{}) || !b.Equal(before)) {
			t.Error("Add", id, ref, c, is, code)
		}
	}
	add("E2", "D1", corpaction.Rights, 110, api.OK)
	add("E1", "D2", corpaction.Dividend, 105, api.OK)
	add("E1", "D1", corpaction.Dividend, 105, api.OK)
	add("E1", "D1", corpaction.Rights, 105, api.ErrDuplicate)
	if c, is, code := b.Add(event(corpaction.Split), trade(31, 99), -1); c != (claim.Claim{}) || is || code != api.OK {
		t.Error("no claim", c, is, code)
	}
	if _, _, code := b.Add(event(0), trade(31, 99), -9); code != api.ErrDate {
		t.Error("error", code)
	}
	ids := func(l []claim.Claim) string {
		s := ""
		for _, c := range l {
			s += " " + c.Event + " " + c.Trade
		}
		return s
	}
	if ids(b.Open()) != " E1 BANKA/D1 E1 BANKA/D2 E2 BANKA/D1" || ids(b.Due(105)) != " E1 BANKA/D1 E1 BANKA/D2" || len(b.Due(104)) != 0 || len(b.Due(110)) != 3 || len(b.Of("BANKA")) != 3 || len(b.Of("BANKB")) != 3 || len(b.Of("BANKC")) != 0 {
		t.Error("lists", ids(b.Open()), ids(b.Due(105)))
	}
	for _, x := range []struct {
		member, asset string
		want          int64
	}{{"BANKA", api.Cash, -36}, {"BANKB", api.Cash, 36}, {"BANKB", into, 7}, {"BANKA", into, -7}, {"BANKA", "", 0}, {"BANKA", isin, 0}, {"BANKC", api.Cash, 0}} {
		if got := b.Balance(x.member, x.asset); got != x.want {
			t.Error("Balance", x, got)
		}
	}
	before := b.Clone()
	for _, x := range []struct {
		event, trade string
		e            api.Errno
	}{{"E3", "BANKA/D1", api.ErrNotFound}, {"E2", "BANKA/D2", api.ErrNotFound}, {"E2", "BANKA/D1", api.OK}, {"E2", "BANKA/D1", api.ErrState}} {
		if e := b.Settle(x.event, x.trade); e != x.e {
			t.Error("Settle", x, e)
		}
	}
	if b.Equal(before) || len(b.Open()) != 2 || b.Balance("BANKB", into) != 0 || b.Balance("BANKB", api.Cash) != 30 || len(before.Open()) != 3 {
		t.Error("settled")
	}
	add("E2", "D1", corpaction.Rights, 110, api.ErrDuplicate)
}

// P45.4 P45.5
func TestLimitAndNil(t *testing.T) {
	b := claim.NewBook()
	x := trade(31, 99)
	for n := range claim.MaxClaims {
		x.Refs[0] = strconv.Itoa(n)
		if _, _, e := b.Add(event(0), x, -1); e != api.OK {
			t.Fatal(e)
		}
	}
	x.Refs[0] = "X"
	if c, is, e := b.Add(event(0), x, -1); c != (claim.Claim{}) || is || e != api.ErrLimit {
		t.Error("limit", e)
	}
	x.Refs[0] = "5"
	if _, _, e := b.Add(event(0), x, -1); e != api.ErrDuplicate {
		t.Error("duplicate first", e)
	}
	if !b.Clone().Equal(b) || b.Equal(claim.NewBook()) {
		t.Error("Equal")
	}
	var none *claim.Book
	c, is, e := none.Add(corpaction.Event{}, matching.Trade{}, 0)
	if c != (claim.Claim{}) || is || e != api.ErrArgument || none.Settle("", "") != api.ErrArgument || len(none.Open())+len(none.Due(0))+len(none.Of("")) != 0 || none.Balance("", api.Cash) != 0 || none.Clone() != nil || !none.Equal(nil) || none.Equal(b) || b.Equal(nil) {
		t.Error("nil book")
	}
}

// P45.6 T14: the receiver ends as if the trade had settled on time, the deliverer up to one unit or minor unit more.
func TestAsIfOnTime(t *testing.T) {
	for _, kind := range []int{corpaction.Dividend, corpaction.Rights} {
		for q := int64(1); q < 30; q++ {
			for held := q; held < 60; held += 7 {
				e := event(kind)
				hold := func(q int64) corpaction.Outcome {
					if q == 0 {
						return corpaction.Outcome{}
					}
					l, _ := e.Outcomes([]corpaction.Holding{{Account: api.Account{Owner: "BANKA", Asset: isin}, Quantity: q}})
					return l[0]
				}
				c, _, _ := claim.Compute(e, trade(q, 99), -1)
				if c.Quantity != hold(q).Given || c.Cash != hold(q).Cash {
					t.Error("receiver", kind, q)
				}
				all, rest := hold(held), hold(held-q)
				units := all.Given - c.Quantity - rest.Given
				worth := units*e.Price + all.Cash - c.Cash - rest.Cash
				if units < 0 || units > 1 || worth < 0 || worth > 1 {
					t.Error("deliverer", kind, q, held, units, worth)
				}
			}
		}
	}
	if !slices.Equal([]int{claim.None, claim.Market, claim.Reverse}, []int{0, 1, 2}) {
		t.Error("constants")
	}
}

// Example 1
func TestExample(t *testing.T) {
	c, is, _ := claim.Compute(event(0), trade(31, 99), 102)
	_, none, _ := claim.Compute(event(0), trade(31, 99), 101)
	if c.Cash != 15 || c.From != "BANKA" || c.To != "BANKB" || c.Day != 105 || !is || none {
		t.Error(c, is, none)
	}
}
