package message_test

import (
	"math"
	"slices"
	"strings"
	"testing"

	"giro/api"
	"giro/message"
)

type (
	instruction = message.Instruction
	amendment   = message.Amendment
	request     = message.Request
	link        = message.Link
)

const (
	isin = "US0378331005"
	most = int64(api.MaxAmount)
)

// valid returns a valid instruction of a kind.
func valid(kind int) instruction {
	i := instruction{Ref: "I1", Kind: kind, Sender: "BANKA", Asset: isin, Quantity: 100, SettleDay: 20}
	switch kind {
	case message.Payment:
		i.Counterparty, i.Asset, i.Quantity, i.Amount = "BANKB", api.Cash, 0, 500
	case message.DvP:
		i.Counterparty, i.Amount, i.TradeDay = "BANKB", 500, 18
	case message.Free:
		i.Counterparty, i.TradeDay = "BANKB", 18
	}
	return i
}

func check(t *testing.T, what string, i instruction, e api.Errno) {
	t.Helper()
	if got := i.Check(); got != e {
		t.Errorf("%s: Check = %d, want %d: %+v", what, got, e, i)
	}
}

// change sets a field and the error that it leads to for each kind: Payment, DvP, Free, Pledge (and Release).
type change struct {
	name  string
	set   func(i *instruction)
	wants [4]api.Errno
}

func all(e api.Errno) [4]api.Errno { return [4]api.Errno{e, e, e, e} }

// changes lists the fields in the order in which they are checked.
func changes() []change {
	links := func(l ...link) func(i *instruction) { return func(i *instruction) { i.Links = l } }
	ok, rng, format, unknown, date := api.OK, api.ErrRange, api.ErrFormat, api.ErrUnknown, api.ErrDate
	return []change{
		{"ref", func(i *instruction) { i.Ref = "" }, all(unknown)},
		{"ref", func(i *instruction) { i.Ref = "0123456789ABCDEF0" }, all(unknown)},
		{"sender", func(i *instruction) { i.Sender = "CB" }, all(unknown)},
		{"counterparty", func(i *instruction) { i.Counterparty = "B" }, [4]api.Errno{unknown, unknown, unknown, format}},
		{"no counterparty", func(i *instruction) { i.Counterparty = "" }, [4]api.Errno{unknown, unknown, unknown, ok}},
		{"self", func(i *instruction) { i.Counterparty = i.Sender }, [4]api.Errno{api.ErrArgument, api.ErrArgument, api.ErrArgument, format}},
		{"side", func(i *instruction) { i.Side = 2 }, all(api.ErrKind)},
		{"side", func(i *instruction) { i.Side = -1 }, all(api.ErrKind)},
		{"receive", func(i *instruction) { i.Side = message.Receive }, [4]api.Errno{format, ok, ok, format}},
		{"asset", func(i *instruction) { i.Asset = "" }, all(unknown)},
		{"other asset", func(i *instruction) {
			if i.Asset == api.Cash {
				i.Asset = isin
			} else {
				i.Asset = api.Cash
			}
		}, all(unknown)},
		{"quantity -1", func(i *instruction) { i.Quantity = -1 }, all(rng)},
		{"quantity 0", func(i *instruction) { i.Quantity = 0 }, [4]api.Errno{ok, rng, rng, rng}},
		{"quantity 1", func(i *instruction) { i.Quantity = 1 }, [4]api.Errno{rng, ok, ok, ok}},
		{"quantity most", func(i *instruction) { i.Quantity = most }, [4]api.Errno{rng, ok, ok, ok}},
		{"quantity more", func(i *instruction) { i.Quantity = most + 1 }, all(rng)},
		{"amount 0", func(i *instruction) { i.Amount = 0 }, [4]api.Errno{rng, rng, ok, ok}},
		{"amount 1", func(i *instruction) { i.Amount = 1 }, [4]api.Errno{ok, ok, rng, rng}},
		{"amount most", func(i *instruction) { i.Amount = most }, [4]api.Errno{ok, ok, rng, rng}},
		{"amount more", func(i *instruction) { i.Amount = most + 1 }, all(rng)},
		{"amount -1", func(i *instruction) { i.Amount = -1 }, all(rng)},
		{"settle day", func(i *instruction) { i.SettleDay = 73049 }, all(date)},
		{"settle day", func(i *instruction) { i.SettleDay = -1 }, all(date)},
		{"last day", func(i *instruction) { i.SettleDay = 73048 }, all(ok)},
		{"trade day", func(i *instruction) { i.TradeDay = -1 }, all(date)},
		{"trade day", func(i *instruction) { i.TradeDay = 21 }, all(date)},
		{"trade day", func(i *instruction) { i.TradeDay = 20 }, [4]api.Errno{date, ok, ok, date}},
		{"priority", func(i *instruction) { i.Priority = -1 }, all(rng)},
		{"priority", func(i *instruction) { i.Priority = 3 }, all(rng)},
		{"priority", func(i *instruction) { i.Priority = 2 }, [4]api.Errno{ok, ok, ok, rng}},
		{"partial", func(i *instruction) { i.Partial, i.MinLot = true, 1 }, [4]api.Errno{format, ok, ok, format}},
		{"lot 0", func(i *instruction) { i.Partial = true }, [4]api.Errno{format, rng, rng, format}},
		{"lot all", func(i *instruction) { i.Partial, i.MinLot = true, 100 }, [4]api.Errno{format, ok, ok, format}},
		{"lot more", func(i *instruction) { i.Partial, i.MinLot = true, 101 }, [4]api.Errno{format, rng, rng, format}},
		{"lot alone", func(i *instruction) { i.MinLot = 1 }, all(rng)},
		{"lot alone", func(i *instruction) { i.MinLot = -1 }, all(rng)},
		{"hold", func(i *instruction) { i.Hold = true }, [4]api.Errno{ok, ok, ok, format}},
		{"reserve", func(i *instruction) { i.Reserve = true }, all(format)},
		{"reserve high", func(i *instruction) { i.Reserve, i.Priority = true, api.High }, [4]api.Errno{format, format, format, rng}},
		{"reserve urgent", func(i *instruction) { i.Reserve, i.Priority = true, api.Urgent }, [4]api.Errno{ok, format, format, rng}},
		{"link", links(link{0, "X"}), [4]api.Errno{ok, ok, ok, format}},
		{"links", links(link{0, "B"}, link{1, "A"}, link{0, "C"}, link{1, "D"}, link{0, "E"}, link{0, "F"}, link{0, "G"}, link{0, "H"}), [4]api.Errno{ok, ok, ok, format}},
		{"many links", links(make([]link, 9)...), [4]api.Errno{api.ErrLimit, api.ErrLimit, api.ErrLimit, format}},
		{"link type", links(link{0, "X"}, link{2, ""}), [4]api.Errno{api.ErrKind, api.ErrKind, api.ErrKind, format}},
		{"link type", links(link{-1, "X"}, link{0, ""}), [4]api.Errno{api.ErrKind, api.ErrKind, api.ErrKind, format}},
		{"link ref", links(link{0, "x"}, link{9, ""}), [4]api.Errno{unknown, unknown, unknown, format}},
		{"link itself", links(link{1, "I1"}, link{9, ""}), [4]api.Errno{api.ErrCycle, api.ErrCycle, api.ErrCycle, format}},
		{"link twice", links(link{0, "X"}, link{1, "Y"}, link{1, "X"}), [4]api.Errno{api.ErrDuplicate, api.ErrDuplicate, api.ErrDuplicate, format}},
	}
}

// P18.1
func TestCheck(t *testing.T) {
	for kind := range message.Kinds {
		check(t, "valid", valid(kind), api.OK)
		column := min(kind, message.Pledge)
		list := changes()
		for n, c := range list {
			i := valid(kind)
			c.set(&i)
			check(t, c.name, i, c.wants[column])
			if c.wants[column] == api.OK {
				continue
			}
			// An error is reported rather than those of fields that are checked later, whose fields it does not touch.
			for _, later := range list[n+1:] {
				if later.name == c.name || later.wants[column] == api.OK || i.Links != nil || strings.HasPrefix(later.name, "reserve ") {
					continue
				}
				j := valid(kind)
				later.set(&j)
				c.set(&j)
				if c.name != "lot 0" && c.name != "partial" {
					check(t, c.name+" before "+later.name, j, c.wants[column])
				}
			}
		}
	}
	i := valid(0)
	for _, kind := range []int{-1, message.Kinds, math.MinInt} {
		i.Kind, i.Ref = kind, ""
		check(t, "kind", i, api.ErrKind)
	}
}

// P18.1
func TestCheckAmendment(t *testing.T) {
	for _, x := range []struct {
		a amendment
		e api.Errno
	}{
		{amendment{}, api.ErrFormat}, {amendment{Amount: 1}, api.ErrFormat}, {amendment{HasAmount: true, Amount: -1, SettleDay: 1}, api.ErrFormat},
		{amendment{HasAmount: true, Priority: 1}, api.ErrFormat}, {amendment{HasAmount: true, Partial: true}, api.ErrFormat}, {amendment{HasAmount: true, MinLot: 1}, api.ErrFormat},
		{amendment{HasSettleDay: true, Amount: 1}, api.ErrFormat},
		{amendment{HasAmount: true}, api.ErrRange}, {amendment{HasAmount: true, Amount: most + 1, HasSettleDay: true, SettleDay: -1}, api.ErrRange}, {amendment{HasAmount: true, Amount: most}, api.OK},
		{amendment{HasSettleDay: true, SettleDay: -1, HasPriority: true, Priority: 5}, api.ErrDate}, {amendment{HasSettleDay: true, SettleDay: 73049}, api.ErrDate}, {amendment{HasSettleDay: true}, api.OK}, {amendment{HasSettleDay: true, SettleDay: 73048}, api.OK},
		{amendment{HasPriority: true, Priority: 3}, api.ErrRange}, {amendment{HasPriority: true, Priority: -1}, api.ErrRange}, {amendment{HasPriority: true}, api.OK}, {amendment{HasPriority: true, Priority: 2}, api.OK},
		{amendment{HasPartial: true, Partial: true}, api.ErrRange}, {amendment{HasPartial: true, Partial: true, MinLot: most + 1}, api.ErrRange}, {amendment{HasPartial: true, MinLot: 1}, api.ErrRange},
		{amendment{HasPartial: true}, api.OK}, {amendment{HasPartial: true, Partial: true, MinLot: most}, api.OK},
	} {
		if e := x.a.Check(); e != x.e {
			t.Errorf("Check of %+v = %d, want %d", x.a, e, x.e)
		}
	}
}

// P18.1
func TestCheckRequest(t *testing.T) {
	good := valid(0)
	bad := valid(0)
	bad.Amount = 0
	amount := amendment{HasAmount: true, Amount: 5}
	for _, x := range []struct {
		r request
		e api.Errno
	}{
		{request{Op: -1}, api.ErrKind}, {request{Op: 5, Sender: "x"}, api.ErrKind}, {request{Op: 2, Sender: "CB", Ref: "I1"}, api.ErrUnknown}, {request{Op: 2, Sender: "BANKA", Ref: ""}, api.ErrUnknown},
		{request{0, "BANKA", "I1", good, amendment{}}, api.OK}, {request{0, "BANKA", "I2", bad, amount}, api.ErrRange}, {request{0, "BANKA", "I2", good, amount}, api.ErrMismatch},
		{request{0, "BANKB", "I1", good, amendment{}}, api.ErrMismatch}, {request{0, "BANKA", "I1", good, amount}, api.ErrFormat},
		{request{1, "BANKA", "I1", instruction{Hold: true}, amendment{}}, api.ErrFormat}, {request{1, "BANKA", "I1", instruction{}, amendment{HasAmount: true}}, api.ErrRange}, {request{1, "BANKA", "I1", instruction{}, amount}, api.OK},
		{request{1, "BANKA", "I1", instruction{}, amendment{}}, api.ErrFormat},
		{request{2, "BANKA", "I1", instruction{Links: []link{}}, amendment{}}, api.OK}, {request{2, "BANKA", "I1", instruction{Links: []link{{}}}, amendment{}}, api.ErrFormat}, {request{3, "BANKA", "I1", instruction{}, amount}, api.ErrFormat},
		{request{4, "BANKA", "I1", instruction{}, amendment{}}, api.OK}, {request{3, "BANKA", "I1", instruction{}, amendment{}}, api.OK},
	} {
		if e := x.r.Check(); e != x.e {
			t.Errorf("Check of %+v = %d, want %d", x.r, e, x.e)
		}
	}
}

// P18.2 P18.6
func TestNormalize(t *testing.T) {
	i := valid(1)
	i.Links = []link{{1, "X"}, {0, "A"}, {0, "M"}}
	n, e := i.Normalize()
	if e != api.OK || !slices.Equal(n.Links, []link{{0, "A"}, {0, "M"}, {1, "X"}}) || i.Links[0].Ref != "X" {
		t.Error(n, e)
	}
	again, e := n.Normalize()
	if e != api.OK || !message.Equal(again, n) {
		t.Error("normalized twice", again, e)
	}
	n.Links = i.Links
	if !message.Equal(n, i) {
		t.Error("another field changed")
	}
	i.Links[0].Type = 7
	if n, e := i.Normalize(); !message.Equal(n, instruction{}) || e != api.ErrKind {
		t.Error(n, e)
	}
}

// P18.2 P18.6
func TestApply(t *testing.T) {
	everything := amendment{HasAmount: true, HasSettleDay: true, HasPriority: true, HasPartial: true, Amount: 7, SettleDay: 30, Priority: 2, Partial: true, MinLot: 5}
	i := valid(1)
	i.Links = []link{{1, "X"}, {0, "A"}}
	got, e := i.Apply(everything)
	want := i.Clone()
	want.Amount, want.SettleDay, want.Priority, want.Partial, want.MinLot = 7, 30, 2, true, 5
	if !message.Equal(got, want) || e != api.OK {
		t.Error(got, e)
	}
	again, e := got.Apply(everything)
	if !message.Equal(again, want) || e != api.OK {
		t.Error("applied twice", again, e)
	}
	got.Links[0].Ref = "?"
	if i.Links[0].Ref != "X" {
		t.Error("memory is shared")
	}
	bad := valid(1)
	bad.Ref = ""
	reserve := valid(0)
	reserve.Priority, reserve.Reserve = api.Urgent, true
	for _, x := range []struct {
		i instruction
		a amendment
		e api.Errno
	}{
		{bad, amendment{}, api.ErrUnknown}, {valid(2), amendment{HasAmount: true}, api.ErrRange}, {valid(2), amendment{HasAmount: true, Amount: 1}, api.ErrFormat}, {valid(3), amendment{HasAmount: true, Amount: 1}, api.ErrFormat},
		{valid(0), amendment{HasPartial: true}, api.ErrFormat}, {valid(4), amendment{HasPartial: true}, api.ErrFormat}, {valid(2), amendment{HasPartial: true}, api.OK}, {valid(0), amendment{HasAmount: true, Amount: 1}, api.OK},
		{valid(1), amendment{HasSettleDay: true, SettleDay: 17}, api.ErrDate}, {valid(1), amendment{HasPartial: true, Partial: true, MinLot: 101}, api.ErrRange}, {valid(3), amendment{HasPriority: true, Priority: 1}, api.ErrRange},
		{valid(3), amendment{HasPriority: true}, api.OK}, {valid(4), amendment{HasSettleDay: true, SettleDay: 5}, api.OK}, {reserve, amendment{HasPriority: true, Priority: 1}, api.ErrFormat},
	} {
		got, e := x.i.Apply(x.a)
		if e != x.e || e != api.OK && !message.Equal(got, instruction{}) {
			t.Errorf("Apply %+v: %d, want %d", x.a, e, x.e)
		}
	}
}

// P18.3 P18.6
func TestParties(t *testing.T) {
	for kind := range message.Kinds {
		i := valid(kind)
		if i.Deliverer() != "BANKA" || i.Receiver() != i.Counterparty || i.NeedsMatching() != (kind == message.DvP || kind == message.Free) {
			t.Error("parties of", message.KindName(kind))
		}
	}
	i := valid(1)
	mirror := i
	mirror.Sender, mirror.Counterparty, mirror.Side = i.Counterparty, i.Sender, message.Receive
	if mirror.Deliverer() != "BANKA" || mirror.Receiver() != "BANKB" {
		t.Error("mirror image")
	}
	other := instruction{Sender: "S", Counterparty: "C", Side: 7}
	if other.Deliverer() != "C" || other.Receiver() != "S" {
		t.Error("another side")
	}
}

// P18.4
func TestNames(t *testing.T) {
	for _, x := range []struct {
		name  func(int) string
		names []string
	}{
		{message.KindName, []string{"payment", "dvp", "free", "pledge", "release"}}, {message.OperationName, []string{"submit", "amend", "cancel", "hold", "resume"}}, {message.PriorityName, []string{"normal", "high", "urgent"}},
	} {
		for n := -2; n < len(x.names)+2; n++ {
			want := ""
			if n >= 0 && n < len(x.names) {
				want = x.names[n]
			}
			if x.name(n) != want {
				t.Error(n, x.name(n), want)
			}
		}
	}
}

// P18.5
func TestEqual(t *testing.T) {
	base := valid(1)
	base.Links = []link{{0, "X"}, {1, "Y"}}
	for n, set := range []func(i *instruction){
		func(i *instruction) { i.Ref = "?" }, func(i *instruction) { i.Kind++ }, func(i *instruction) { i.Sender = "?" }, func(i *instruction) { i.Counterparty = "?" }, func(i *instruction) { i.Side++ },
		func(i *instruction) { i.Asset = "?" }, func(i *instruction) { i.Quantity++ }, func(i *instruction) { i.Amount++ }, func(i *instruction) { i.TradeDay++ }, func(i *instruction) { i.SettleDay++ },
		func(i *instruction) { i.Priority++ }, func(i *instruction) { i.Partial = true }, func(i *instruction) { i.MinLot++ }, func(i *instruction) { i.Hold = true }, func(i *instruction) { i.Reserve = true },
		func(i *instruction) { i.Links[0].Ref = "?" }, func(i *instruction) { i.Links[1].Type = 0 }, func(i *instruction) { i.Links = i.Links[:1] }, func(i *instruction) { slices.Reverse(i.Links) },
	} {
		i := base.Clone()
		if !message.Equal(i, base) || !message.EqualRequests(request{Instruction: i}, request{Instruction: base}) {
			t.Fatal("clone is not equal")
		}
		set(&i)
		if message.Equal(i, base) || message.EqualRequests(request{Instruction: i}, request{Instruction: base}) || base.Links[0].Ref != "X" || base.Links[1].Type != 1 {
			t.Error("change", n)
		}
	}
	if !message.Equal(instruction{}, instruction{Links: []link{}}) {
		t.Error("nil and empty links")
	}
	for n, r := range []request{{Op: 1}, {Sender: "x"}, {Ref: "x"}, {Amendment: amendment{HasPartial: true}}} {
		if message.EqualRequests(r, request{}) || !message.EqualRequests(r, r) {
			t.Error("request", n)
		}
	}
}

// Example 1
func TestExample(t *testing.T) {
	i := instruction{Ref: "D1", Kind: message.DvP, Sender: "BANKA", Counterparty: "BANKB", Side: message.Deliver, Asset: isin, Quantity: 100, Amount: 2500000, TradeDay: 9811, SettleDay: 9815}
	check(t, "valid", i, api.OK)
	i.MinLot = 10
	check(t, "lot", i, api.ErrRange)
	i.Partial = true
	check(t, "partial", i, api.OK)
}
