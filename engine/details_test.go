package engine_test

import (
	"slices"
	"strings"
	"testing"

	"giro/api"
	"giro/calendar"
	"giro/corpaction"
	"giro/engine"
	"giro/lifecycle"
	"giro/message"
	"giro/refdata"
	"giro/schedule"
)

func linked(i message.Instruction, kind int, refs ...string) message.Instruction {
	for _, r := range refs {
		i.Links = append(i.Links, message.Link{Type: kind, Ref: r})
	}
	return i
}

func (w *world) line(owner string, want int64) {
	w.t.Helper()
	if got := w.e.Accounts().Line(owner); got != want {
		w.t.Error("line of", owner, got, "want", want)
	}
}

// P51.2: the number of accepted commands is limited.
func TestMaxCommands(t *testing.T) {
	cal, _ := calendar.New(nil, nil)
	e, _ := engine.New(cal, schedule.Default())
	for n := range engine.MaxCommands {
		if _, code := e.Step(command{}); code != api.OK {
			t.Fatal(n, code)
		}
	}
	if l, code := e.Step(command{}); len(l) != 0 || code != api.ErrLimit || e.Commands() != engine.MaxCommands {
		t.Error("one more", code)
	}
	if _, code := e.Step(command{Kind: -1}); code != api.ErrKind {
		t.Error("check first", code)
	}
	// The phase, which allows no payments at night, is looked at later.
	night, _ := engine.New(cal, schedule.Default())
	c := submit(pay("P1", "BANKA", "BANKB", 5, 0))
	if _, code := night.Step(c); code == api.OK || code == api.ErrLimit {
		t.Error("night", code)
	}
	if _, code := e.Step(c); code != api.ErrLimit {
		t.Error("limit before phase", code)
	}
}

// P51.6
func TestEqual(t *testing.T) {
	every, _ := calendar.New(nil, nil)
	s := schedule.Default()
	other := s
	other.Begins[0]++
	a, _ := engine.New(every, s)
	b, _ := engine.New(week(t), s)
	c, _ := engine.New(every, other)
	d, _ := engine.New(every, s)
	if a.Equal(b) || a.Equal(c) || !a.Equal(d) {
		t.Error("calendars and schedules")
	}
	d.Step(command{})
	if a.Equal(d) || d.Equal(a) {
		t.Error("commands")
	}
	a.Step(command{Clock: api.Clock{Minute: 1}})
	if a.Equal(d) {
		t.Error("other commands")
	}
}

// P51.3 P51.8
func TestCommandsAreKept(t *testing.T) {
	w := newWorld(t)
	i := linked(pay("P1", "BANKA", "BANKB", 5, monday), message.After, "P2", "P3")
	c := submit(i)
	w.ok(c)
	hash := w.e.Hash()
	n := w.e.Commands() - 1
	i.Links[0].Ref = "changed"
	kept, ok := w.e.Command(n)
	if !ok || kept.Request.Instruction.Links[0].Ref != "P2" || w.e.Hash() != hash {
		t.Error("the argument is retained", ok)
	}
	kept.Request.Instruction.Links[1].Ref = "changed"
	if again, _ := w.e.Command(n); again.Request.Instruction.Links[1].Ref != "P3" {
		t.Error("a result is shared")
	}
	var none *engine.Engine
	if s, ok := none.State("BANKA", "P1"); s != 0 || ok {
		t.Error("state of nil", s, ok)
	}
	if s, ok := w.e.State("BANKB", "P1"); s != 0 || ok {
		t.Error("unknown state", s, ok)
	}
}

// P51.2: orders that settle together are one bundle, a part and a pledge are one each.
func TestBundles(t *testing.T) {
	w := newWorld(t)
	w.ok(submit(pay("P1", "BANKA", "BANKB", 5, monday)))
	w.ok(submit(pay("P2", "BANKB", "BANKC", 5, monday)))
	w.want(submit(pay("P3", "BANKC", "BANKA", 5, monday)), " accepted BANKC/P3; settled BANKA/P1; settled BANKB/P2; settled BANKC/P3;")
	h := w.e.History()
	b, found := h.At(h.Len())
	var refs []string
	for _, p := range b.Parts {
		refs = append(refs, p.Ref)
	}
	if !found || !slices.Equal(refs, []string{"BANKA/P1", "BANKB/P2", "BANKC/P3"}) || b.Clock != w.e.Clock() || h.Len() != 1 {
		t.Error("parts", refs, h.Len())
	}
}

// P51.2: a trade that has settled is no longer in the pool, so that a link to its receipt leads to an order that is not known.
func TestLinksToSettled(t *testing.T) {
	w := newWorld(t)
	w.units("BANKA", isin, 10)
	w.cash("BANKB", 50)
	w.ok(submit(delivery("D1", "BANKA", "BANKB", 10, 10, monday)))
	w.want(submit(receipt("R1", "BANKB", "BANKA", 10, 10, monday)), " accepted BANKB/R1; matched BANKA/D1; settled BANKA/D1;")
	w.want(submit(linked(pay("P1", "BANKB", "BANKA", 1, monday), message.After, "R1")), " accepted BANKB/P1;")
	w.want(submit(linked(pay("P2", "BANKA", "BANKB", 1, monday), message.After, "D1")), " accepted BANKA/P2; settled BANKA/P2;")
}

// P51.2: only the priority of an order can be amended.
func TestAmendOrder(t *testing.T) {
	w := newWorld(t)
	w.ok(submit(pay("P1", "BANKA", "BANKB", 5, monday)))
	high := message.Amendment{HasPriority: true, Priority: 1}
	day, amount, whole := high, high, high
	day.HasSettleDay, day.SettleDay = true, monday+1
	amount.HasAmount, amount.Amount = true, 6
	whole.HasPartial = true
	for _, a := range []message.Amendment{day, amount, whole, {HasSettleDay: true, SettleDay: monday + 1}, {HasAmount: true, Amount: 6}} {
		w.fails(amend("BANKA", "P1", a), api.ErrState)
	}
	w.want(amend("BANKA", "P1", high), " changed BANKA/P1;")
}

// P51.2: the line follows the usage after a run.
func TestRefresh(t *testing.T) {
	w := newWorld(t)
	w.units("BANKA", isin, 10)
	w.cash("BANKB", 100)
	w.ok(submit(pledge(message.Pledge, "G", "BANKA", 10)))
	w.line("BANKA", 90)
	w.want(submit(pay("P1", "BANKA", "BANKB", 80, monday)), " accepted BANKA/P1; settled BANKA/P1;")
	w.ok(command{Kind: engine.SetPrice, Asset: isin, Amount: 5})
	w.line("BANKA", 80)
	w.want(submit(pay("P2", "BANKB", "BANKA", 15, monday)), " accepted BANKB/P2; settled BANKB/P2;")
	w.line("BANKA", 65)
	w.want(submit(pay("P3", "BANKB", "BANKA", 60, monday)), " accepted BANKB/P3; settled BANKB/P3;")
	w.line("BANKA", 45)
	// A security that is not eligible any more is worth nothing.
	w.ok(command{Kind: engine.SetSecurity, Security: refdata.Security{ISIN: isin, Issuer: "ISSUER", Lot: 1}})
	w.line("BANKA", 5)
	w.want(submit(pay("P4", "BANKB", "BANKA", 5, monday)), " accepted BANKB/P4; settled BANKB/P4;")
	w.line("BANKA", 0)
}

// P51.1: securities that are not eligible are not pledged automatically, although they come first.
func TestEligibleOnly(t *testing.T) {
	const first = "AU0000XVGZA3"
	w := newWorld(t)
	w.ok(command{Kind: engine.SetSecurity, Security: refdata.Security{ISIN: first, Issuer: "ISSUER", Lot: 1, Active: true}})
	w.units("BANKA", first, 1)
	w.units("BANKA", isin, 10)
	w.ok(command{Kind: engine.SetAuto, From: "BANKA", Amount: 1})
	w.want(submit(pay("P1", "BANKA", "BANKB", 18, monday)), " accepted BANKA/P1; pledged BANKA; settled BANKA/P1;")
	w.balance("BANKA", api.Pledged, first, 0)
	w.balance("BANKA", api.Pledged, isin, 2)
}

// P51.2: actions are paid on the morning of their day; one unit counts, and nobody needs to hold any.
func TestPaying(t *testing.T) {
	w := newWorld(t)
	w.cash("ISSUER", 100)
	w.units("BANKB", isin, 1)
	w.units("BANKA", isin, 2)
	a := dividend("E1", monday, monday+1)
	a.Cash = frac(3, 1)
	w.announce(a)
	a.Id, a.Asset = "E2", other
	w.announce(a)
	if s := w.at(monday, 1439); !strings.HasSuffix(s, " phase close; recorded E1 2; recorded E2;") {
		t.Error(s)
	}
	if s := w.at(monday+1, 150); s != " phase start; paid E1; paid E2;" {
		t.Error(s)
	}
	l := w.e.Events(w.e.Commands() - 1)
	want := []api.Posting{
		{Account: api.Account{Owner: "ISSUER", Asset: api.Cash}, Delta: -6}, {Account: api.Account{Owner: "BANKA", Asset: api.Cash}, Delta: 6},
		{Account: api.Account{Owner: "ISSUER", Asset: api.Cash}, Delta: -3}, {Account: api.Account{Owner: "BANKB", Asset: api.Cash}, Delta: 3},
	}
	if len(l) != 3 || !slices.Equal(l[1].Postings, want) || len(l[2].Postings) != 0 {
		t.Error("postings", l)
	}
	w.balance("BANKB", api.Free, api.Cash, 3)
	if _, state, _ := w.e.Actions().Get("E2"); state != corpaction.Paid {
		t.Error("state", state)
	}
}

// P51.2: a split adjusts the trades in its security only; a trade that becomes nothing leaves the settlement engine.
func TestSplit(t *testing.T) {
	w := newWorld(t)
	w.announce(corpaction.Event{Id: "S", Kind: corpaction.Split, Issuer: "ISSUER", Asset: isin, Ratio: frac(1, 10), ExDay: monday, RecordDay: monday, PayDay: monday})
	future := pay("P1", "BANKA", "BANKC", 5, monday+1)
	future.Priority = 2
	w.ok(submit(future))
	for n, x := range []struct {
		asset string
		q     int64
	}{{other, 50}, {isin, 9}, {isin, 50}} {
		d, r := delivery("D"+string(rune('1'+n)), "BANKA", "BANKC", x.q, 100, monday), receipt("R"+string(rune('1'+n)), "BANKC", "BANKA", x.q, 100, monday)
		d.Asset, r.Asset = x.asset, x.asset
		w.ok(submit(d))
		w.ok(submit(r))
	}
	if s := w.at(monday, 1439); !strings.HasSuffix(s, " recorded S; paid S; failed BANKA/D2; adjusted BANKA/D3 5;") {
		t.Error(s)
	}
	if l := w.e.Orders(); !slices.Equal(l, []string{"BANKA/P1", "BANKA/D1", "BANKA/D3"}) {
		t.Error("orders", l)
	}
	w.state("BANKA", "D2", lifecycle.Failed)
	w.state("BANKC", "R2", lifecycle.Failed)
	if x, _ := w.e.Trade("BANKA/D1"); x.Quantity != 50 {
		t.Error("a trade in another security is adjusted")
	}
}

// P51.2: penalties concern all late trades, whatever waits before them.
func TestPenalties(t *testing.T) {
	w := newWorld(t)
	w.cash("BANKC", 100)
	future := pay("P1", "BANKA", "BANKC", 5, monday+3)
	future.Priority = 2
	w.ok(submit(future))
	for n, amount := range []int64{0, 36000, 72000} {
		w.ok(submit(delivery("D"+string(rune('1'+n)), "BANKC", "BANKB", 5, amount, monday)))
		w.ok(submit(receipt("R"+string(rune('1'+n)), "BANKB", "BANKC", 5, amount, monday)))
	}
	if s := w.at(monday+1, 1439); !strings.HasSuffix(s, " phase close; charged BANKC/D2 1; charged BANKC/D3 2;") {
		t.Error(s)
	}
	l := w.e.Events(w.e.Commands() - 1)
	want := []api.Posting{{Account: api.Account{Owner: "BANKC", Asset: api.Cash}, Delta: -2}, {Account: api.Account{Owner: "BANKB", Asset: api.Cash}, Delta: 2}}
	if x := l[len(l)-1]; !slices.Equal(x.Postings, want) || x.Amount != 2 {
		t.Error("postings", x)
	}
}

// P51.2: what a closing changes without reporting it, because it returns an error, is reported as one event.
func TestBrokenClosing(t *testing.T) {
	w := newWorld(t)
	w.units("BANKA", isin, 10)
	w.cash("BANKC", api.MaxAmount)
	w.ok(submit(pledge(message.Pledge, "G", "BANKA", 10)))
	w.want(submit(pay("P1", "BANKA", "BANKB", 18, monday)), " accepted BANKA/P1; settled BANKA/P1;")
	// The central bank cannot issue more cash.
	if s := w.at(monday, 1439); !strings.HasSuffix(s, " phase close; posted close;") {
		t.Error(s)
	}
	l := w.e.Events(w.e.Commands() - 1)
	want := []api.Posting{
		{Account: api.Account{Owner: "BANKA", Kind: api.Pledged, Asset: isin}, Delta: -2},
		{Account: api.Account{Owner: "CB", Asset: isin}, Delta: 2},
	}
	if x := l[len(l)-1]; !slices.Equal(x.Postings, want) || x.Amount != 0 || x.Kind != engine.Posted {
		t.Error("postings", x)
	}
	h := w.e.History()
	if b, _ := h.At(h.Len()); len(b.Parts) != 1 || b.Parts[0].Ref != "close" {
		t.Error("bundle", b)
	}
}
