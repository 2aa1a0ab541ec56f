package engine_test

import (
	"maps"
	"slices"
	"strconv"
	"strings"
	"testing"

	"giro/account"
	"giro/api"
	"giro/calendar"
	"giro/codec"
	"giro/corpaction"
	"giro/engine"
	"giro/fraction"
	"giro/lifecycle"
	"giro/message"
	"giro/refdata"
	"giro/schedule"
	"giro/sha256"
)

type (
	command = engine.Command
	event   = engine.Event
)

const (
	isin   = "US0378331005"
	other  = "XS0000000009"
	monday = 16
)

func frac(num, den int64) fraction.Fraction { f, _ := fraction.New(num, den); return f }

func week(t *testing.T) *calendar.Calendar {
	t.Helper()
	c, e := calendar.New([]int{5, 6}, nil)
	if e != api.OK {
		t.Fatal(e)
	}
	return c
}

// world is an engine that a test drives.
type world struct {
	t *testing.T
	e *engine.Engine
	n int // the number of references so far
}

// newWorld returns an engine on a Monday in the phase Realtime, with members, an issuer, two securities with prices and haircuts, and cash and units.
func newWorld(t *testing.T) *world {
	t.Helper()
	e, code := engine.New(week(t), schedule.Default())
	if code != api.OK || e == nil {
		t.Fatal("New", code)
	}
	w := &world{t: t, e: e}
	w.at(monday, 420)
	for _, m := range []string{"BANKA", "BANKB", "BANKC", "ISSUER"} {
		w.ok(command{Kind: engine.SetMember, Member: refdata.Member{Code: m, Active: true}})
	}
	for n, s := range []string{isin, other} {
		w.ok(command{Kind: engine.SetSecurity, Security: refdata.Security{ISIN: s, Issuer: "ISSUER", Lot: 1, Active: true}})
		w.ok(command{Kind: engine.SetPrice, Asset: s, Amount: int64(10 - n)})
		w.ok(command{Kind: engine.SetHaircut, Asset: s, Ratio: frac(1, 10)})
	}
	return w
}

// step executes a command and returns its events as a text.
func (w *world) step(c command) (string, api.Errno) {
	w.t.Helper()
	before := w.e.Clone()
	l, code := w.e.Step(c)
	if code != api.OK {
		if len(l) != 0 || !w.e.Equal(before) || w.e.Commands() != before.Commands() || !w.e.Accounts().Equal(before.Accounts()) {
			w.t.Error("a refused command has an effect")
		}
		return "", code
	}
	w.check(before, l)
	return text(l), api.OK
}

// ok executes a command that must be accepted.
func (w *world) ok(c command) string {
	w.t.Helper()
	s, code := w.step(c)
	if code != api.OK {
		w.t.Errorf("command %d: error %d", c.Kind, code)
	}
	return s
}

func (w *world) want(c command, s string) {
	w.t.Helper()
	if got := w.ok(c); got != s {
		w.t.Errorf("events:%s, want:%s", got, s)
	}
}

func (w *world) fails(c command, want api.Errno) {
	w.t.Helper()
	if s, code := w.step(c); code != want {
		w.t.Errorf("command %d: error %d, want %d, events%s", c.Kind, code, want, s)
	}
}

// at advances the time.
func (w *world) at(day, minute int) string {
	w.t.Helper()
	return w.ok(command{Kind: engine.Advance, Clock: api.Clock{Day: day, Minute: minute}})
}

func (w *world) cash(to string, x int64) {
	w.t.Helper()
	w.ok(command{Kind: engine.Issue, From: "CB", To: to, Asset: api.Cash, Amount: x})
}

func (w *world) units(to, asset string, x int64) {
	w.t.Helper()
	w.ok(command{Kind: engine.Issue, From: "ISSUER", To: to, Asset: asset, Amount: x})
}

var names = []string{"posted", "accepted", "matched", "settled", "part", "pledged", "changed", "cancelled", "failed", "phase", "recorded", "paid", "adjusted", "charged", "seized", "released"}

func text(l []event) string {
	s := ""
	for _, x := range l {
		s += " " + names[x.Kind] + " " + x.Ref
		if x.Amount != 0 {
			s += " " + strconv.FormatInt(x.Amount, 10)
		}
		s += ";"
	}
	return s
}

// check checks what holds after every command.
func (w *world) check(before *engine.Engine, l []event) {
	w.t.Helper()
	n := w.e.Commands() - 1
	seq := 0
	for k := range n {
		seq += len(w.e.Events(k))
	}
	sums, balances := map[string]int64{}, maps.Collect(before.Accounts().All())
	for k, x := range l {
		if x.Seq != seq+k+1 {
			w.t.Error("Seq", x.Seq, "want", seq+k+1)
		}
		for _, p := range x.Postings {
			balances[p.Account] += p.Delta
		}
	}
	a, h := w.e.Accounts(), w.e.History()
	for k, x := range a.All() {
		sums[k.Asset] += x
		if balances[k] != x {
			w.t.Error("the events do not explain", k, balances[k], x)
		}
		if y, _ := h.BalanceAt(k, h.Len()); y != x {
			w.t.Error("the history does not explain", k, y, x)
		}
	}
	for asset, x := range sums {
		if x != 0 {
			w.t.Error("balances of", asset, "add up to", x)
		}
	}
	c, _ := w.e.Command(n)
	if c.Kind != engine.Advance && schedule.Allows(w.e.Phase(), schedule.Settle) == api.OK && !w.e.AtRest() {
		w.t.Error("not at rest")
	}
}

func (w *world) balance(owner string, kind int, asset string, x int64) {
	w.t.Helper()
	if got := w.e.Accounts().Balance(api.Account{Owner: owner, Kind: kind, Asset: asset}); got != x {
		w.t.Error("balance of", owner, kind, asset, got, "want", x)
	}
}

func (w *world) state(sender, ref string, want int) {
	w.t.Helper()
	if got, found := w.e.State(sender, ref); got != want || !found {
		w.t.Error("state of", sender, ref, got, found, "want", want)
	}
}

func submit(i message.Instruction) command {
	return command{Kind: engine.Submit, Request: message.Request{Op: message.Submit, Sender: i.Sender, Ref: i.Ref, Instruction: i}}
}

func request(op int, sender, ref string) command {
	return command{Kind: engine.Submit, Request: message.Request{Op: op, Sender: sender, Ref: ref}}
}

func amend(sender, ref string, a message.Amendment) command {
	c := request(message.Amend, sender, ref)
	c.Request.Amendment = a
	return c
}

func pay(ref, from, to string, x int64, day int) message.Instruction {
	return message.Instruction{Ref: ref, Kind: message.Payment, Sender: from, Counterparty: to, Asset: api.Cash, Amount: x, SettleDay: day}
}

// delivery is the instruction of a deliverer, and receipt that of its receiver.
func delivery(ref, from, to string, q, x int64, day int) message.Instruction {
	i := message.Instruction{Ref: ref, Kind: message.DvP, Sender: from, Counterparty: to, Asset: isin, Quantity: q, Amount: x, TradeDay: monday, SettleDay: day}
	if x == 0 {
		i.Kind = message.Free
	}
	return i
}

func receipt(ref, from, to string, q, x int64, day int) message.Instruction {
	i := delivery(ref, from, to, q, x, day)
	i.Side = message.Receive
	return i
}

func pledge(kind int, ref, sender string, q int64) message.Instruction {
	return message.Instruction{Ref: ref, Kind: kind, Sender: sender, Asset: isin, Quantity: q, SettleDay: monday}
}

// P51.1
func TestNew(t *testing.T) {
	if e, code := engine.New(nil, schedule.Schedule{}); e != nil || code != api.ErrArgument {
		t.Error("New", code)
	}
	if e, code := engine.New(week(t), schedule.Schedule{}); e != nil || code != api.ErrRange {
		t.Error("New", code)
	}
	e, code := engine.New(week(t), schedule.Default())
	if code != api.OK || e.Commands() != 0 || e.Clock() != (api.Clock{}) || e.Phase() != schedule.Night || e.Hash() != sha256.Sum(nil) || e.History().Len() != 0 || len(e.Orders()) != 0 || !e.AtRest() {
		t.Error("initial state", code)
	}
	if engine.PenaltySecurities() != frac(1, 100) || engine.PenaltyCash() != frac(1, 50) {
		t.Error("penalties")
	}
}

// commands returns a valid command of each kind, with the fields that it uses.
func commands() []command {
	return []command{
		{Kind: engine.Advance, Clock: api.Clock{Day: 5, Minute: 7}},
		{Kind: engine.SetMember, Member: refdata.Member{Code: "BANKX", Active: true}},
		{Kind: engine.SetSecurity, Security: refdata.Security{ISIN: isin, Issuer: "ISSUER", Lot: 1}},
		{Kind: engine.SetPrice, Asset: isin, Amount: 5},
		{Kind: engine.SetHaircut, Asset: isin, Ratio: frac(1, 2)},
		{Kind: engine.Issue, From: "CB", To: "BANKA", Asset: api.Cash, Amount: 5},
		{Kind: engine.Redeem, From: "CB", To: "BANKA", Asset: api.Cash, Amount: 5},
		{Kind: engine.SetBilateral, From: "BANKA", To: "BANKB", Amount: 5},
		{Kind: engine.SetMultilateral, From: "BANKA", Amount: 5},
		{Kind: engine.Reserve, From: "BANKA", Amount: 5},
		{Kind: engine.Unreserve, From: "BANKA", Amount: 5},
		{Kind: engine.SetAuto, From: "BANKA", Amount: 1},
		submit(pay("P", "BANKA", "BANKB", 5, monday)),
		{Kind: engine.Announce, Action: corpaction.Event{Id: "E", Kind: corpaction.Dividend, Issuer: "ISSUER", Asset: isin, Cash: frac(1, 2), ExDay: 5, RecordDay: 6, PayDay: 7}},
		{Kind: engine.Withdraw, From: "E"},
	}
}

// P51.1
func TestCommandCheck(t *testing.T) {
	sets := []func(c *command){
		func(c *command) { c.Clock.Minute = 1 }, func(c *command) { c.Member.Active = true }, func(c *command) { c.Security.Lot = 1 }, func(c *command) { c.From = "X" }, func(c *command) { c.To = "X" },
		func(c *command) { c.Asset = "X" }, func(c *command) { c.Amount = 1 }, func(c *command) { c.Ratio.Den = 1 }, func(c *command) { c.Request.Sender = "X" }, func(c *command) { c.Action.Price = 1 },
	}
	uses := []string{"0", "1", "2", "56", "57", "3456", "3456", "346", "36", "36", "36", "36", "8", "9", "3"}
	for kind, c := range commands() {
		if code := c.Check(); code != api.OK {
			t.Error("command", kind, code)
		}
		for n, set := range sets {
			if strings.Contains(uses[kind], strconv.Itoa(n)) {
				continue
			}
			d := commands()[kind]
			set(&d)
			if code := d.Check(); code != api.ErrFormat {
				t.Error("command", kind, "field", n, code)
			}
		}
		d := commands()[kind]
		if kind != engine.Submit {
			d.Request.Instruction.Links = []message.Link{}
			if code := d.Check(); code != api.OK {
				t.Error("empty links", kind, code)
			}
			d.Request.Instruction.Links = []message.Link{{}}
			if code := d.Check(); code != api.ErrFormat {
				t.Error("links", kind, code)
			}
		}
	}
	for n, x := range []struct {
		c    command
		code api.Errno
	}{
		{command{Kind: -1, Amount: 1}, api.ErrKind}, {command{Kind: engine.NumCommands, Amount: 1}, api.ErrKind}, {command{Clock: api.Clock{Day: -1}}, api.ErrRange}, {command{Clock: api.Clock{Day: 73049}}, api.ErrRange}, {command{Clock: api.Clock{Minute: -1}}, api.ErrRange}, {command{Clock: api.Clock{Minute: 1440}}, api.ErrRange}, {command{}, api.OK},
		{command{Kind: engine.SetAuto, Amount: 2}, api.ErrRange}, {command{Kind: engine.SetAuto, Amount: -1}, api.ErrRange}, {command{Kind: engine.SetAuto}, api.OK}, {command{Kind: engine.Submit, Request: message.Request{Op: 9}}, api.ErrKind}, {command{Kind: engine.Announce}, api.ErrUnknown}, {command{Kind: engine.Submit, Request: message.Request{Op: 9}, Amount: 1}, api.ErrFormat},
	} {
		if code := x.c.Check(); code != x.code {
			t.Error("Check", n, code, "want", x.code)
		}
	}
}

// P51.2: what the phases allow.
func TestPhases(t *testing.T) {
	actions := []int{-1, 0, 0, 0, 0, 0, 0, 0, 0, schedule.Collateral, schedule.Collateral, 0, schedule.Pay, 0, 0}
	for phase, minute := range []int{0, 150, 300, 420, 960, 1020, 1080} {
		w := newWorld(t)
		w.at(monday+1, minute)
		if w.e.Phase() != phase || w.e.Clock() != (api.Clock{Day: monday + 1, Minute: minute}) {
			t.Error("Phase", w.e.Phase())
		}
		for kind, c := range commands() {
			if kind == engine.Advance {
				continue
			}
			want := schedule.Allows(phase, actions[kind])
			_, code := w.step(c)
			if want != api.OK && code != want || want == api.OK && (code == api.ErrClosed || code == api.ErrCutoff) {
				t.Error("phase", phase, "command", kind, code, "want", want)
			}
		}
		for op, action := range map[int]int{message.Cancel: schedule.Modify, message.Hold: schedule.Modify} {
			want := schedule.Allows(phase, action)
			if want == api.OK {
				want = api.ErrNotFound
			}
			w.fails(request(op, "BANKA", "NONE"), want)
		}
		w.fails(submit(pledge(message.Release, "R", "BANKA", 1)), map[api.Errno]api.Errno{api.OK: api.ErrStale, api.ErrClosed: api.ErrClosed, api.ErrCutoff: api.ErrCutoff}[schedule.Allows(phase, schedule.Collateral)])
	}
}

// P51.2: reference data, issues and reservations.
func TestAdministration(t *testing.T) {
	w := newWorld(t)
	w.fails(command{Kind: engine.SetMember}, api.ErrUnknown)
	w.fails(command{Kind: engine.SetSecurity, Security: refdata.Security{ISIN: isin, Issuer: "BANKA", Lot: 1}}, api.ErrKind)
	w.fails(command{Kind: engine.SetPrice, Asset: isin}, api.ErrRange)
	w.fails(command{Kind: engine.SetHaircut, Asset: "x"}, api.ErrNotFound)
	w.want(command{Kind: engine.Issue, From: "CB", To: "BANKA", Asset: api.Cash, Amount: 100}, " posted issue 100;")
	w.want(command{Kind: engine.Issue, From: "ISSUER", To: "BANKA", Asset: isin, Amount: 50}, " posted issue 50;")
	w.fails(command{Kind: engine.Issue, From: "ISSUER", To: "BANKA", Asset: "US5949181045", Amount: -1}, api.ErrNotFound)
	w.fails(command{Kind: engine.Issue, From: "BANKB", To: "x", Asset: isin, Amount: -1}, api.ErrIneligible)
	w.fails(command{Kind: engine.Issue, From: "BANKB", To: "BANKA", Asset: api.Cash, Amount: 1}, api.ErrKind)
	w.fails(command{Kind: engine.Issue, From: "ISSUER", To: "x", Asset: isin, Amount: 1}, api.ErrUnknown)
	w.fails(command{Kind: engine.Redeem, From: "BANKB", To: "x", Asset: isin, Amount: -1}, api.ErrIneligible)
	w.fails(command{Kind: engine.Redeem, From: "CB", To: "BANKA", Asset: api.Cash, Amount: 101}, api.ErrFunds)
	w.want(command{Kind: engine.Redeem, From: "ISSUER", To: "BANKA", Asset: isin, Amount: 20}, " posted redeem 20;")
	w.want(command{Kind: engine.Reserve, From: "BANKA", Amount: 30}, " posted reserve 30;")
	w.fails(command{Kind: engine.Reserve, From: "BANKA", Amount: 71}, api.ErrFunds)
	w.want(command{Kind: engine.Unreserve, From: "BANKA", Amount: 10}, " posted unreserve 10;")
	w.fails(command{Kind: engine.Unreserve, From: "BANKA", Amount: 21}, api.ErrFunds)
	w.balance("BANKA", api.Free, api.Cash, 80)
	w.balance("BANKA", api.Reserved, api.Cash, 20)
	w.balance("BANKA", api.Free, isin, 30)
	l := w.e.Events(w.e.Commands() - 1)
	want := []api.Posting{{Account: api.Account{Owner: "BANKA", Kind: api.Reserved, Asset: api.Cash}, Delta: -10}, {Account: api.Account{Owner: "BANKA", Kind: api.Free, Asset: api.Cash}, Delta: 10}}
	h := w.e.History()
	b, _ := h.At(h.Len())
	if len(l) != 1 || !slices.Equal(l[0].Postings, want) || len(b.Parts) != 1 || b.Parts[0].Ref != "unreserve" || b.Clock != (api.Clock{Day: monday, Minute: 420}) || l[0].Clock != b.Clock {
		t.Error(l, b)
	}
	w.fails(command{Kind: engine.SetBilateral, From: "BANKA", To: "BANKA"}, api.ErrDuplicate)
	w.ok(command{Kind: engine.SetBilateral, From: "BANKA", To: "BANKB", Amount: 30})
	w.ok(command{Kind: engine.SetMultilateral, From: "BANKA", Amount: 40})
	w.ok(command{Kind: engine.SetMultilateral, From: "BANKC", Amount: -1})
	if len(w.e.Limits().Limits()) != 2 || len(w.e.Table().Members(monday)) != 4 {
		t.Error("Limits", w.e.Limits().Limits())
	}
	w.fails(command{Kind: engine.SetAuto, From: "x"}, api.ErrUnknown)
}

// P51.2: payments, with limits, holds, priorities and cancellation.
func TestPayments(t *testing.T) {
	w := newWorld(t)
	w.cash("BANKA", 100)
	w.want(submit(pay("P1", "BANKA", "BANKB", 60, monday)), " accepted BANKA/P1; settled BANKA/P1;")
	w.state("BANKA", "P1", lifecycle.Settled)
	w.fails(submit(pay("P1", "BANKA", "BANKB", 60, monday)), api.ErrDuplicate)
	w.fails(submit(pay("P2", "BANKA", "BANKX", 60, monday)), api.ErrNotFound)
	w.fails(submit(pay("P2", "BANKA", "BANKB", 60, monday-3)), api.ErrStale)
	w.want(submit(pay("P2", "BANKA", "BANKB", 50, monday)), " accepted BANKA/P2;")
	w.want(submit(pay("P3", "BANKA", "BANKB", 10, monday)), " accepted BANKA/P3;")
	w.state("BANKA", "P3", lifecycle.Waiting)
	w.fails(amend("BANKA", "P3", message.Amendment{HasAmount: true, Amount: 5}), api.ErrState)
	w.fails(amend("BANKA", "P3", message.Amendment{HasPriority: true, HasAmount: true, Amount: 5}), api.ErrState)
	w.want(amend("BANKA", "P3", message.Amendment{HasPriority: true, Priority: 2}), " changed BANKA/P3; settled BANKA/P3;")
	w.fails(amend("BANKA", "P3", message.Amendment{HasPriority: true}), api.ErrState)
	w.fails(request(message.Resume, "BANKA", "P2"), api.ErrState)
	w.want(request(message.Hold, "BANKA", "P2"), " changed BANKA/P2;")
	w.state("BANKA", "P2", lifecycle.Held)
	w.fails(request(message.Hold, "BANKA", "P2"), api.ErrState)
	w.cash("BANKA", 50)
	w.want(request(message.Resume, "BANKA", "P2"), " changed BANKA/P2; settled BANKA/P2;")
	held := pay("P4", "BANKB", "BANKA", 5, monday)
	held.Hold = true
	w.want(submit(held), " accepted BANKB/P4;")
	w.state("BANKB", "P4", lifecycle.Held)
	w.fails(request(message.Cancel, "BANKA", "P4"), api.ErrNotFound)
	w.want(request(message.Cancel, "BANKB", "P4"), " cancelled BANKB/P4;")
	w.state("BANKB", "P4", lifecycle.Cancelled)
	w.fails(request(message.Cancel, "BANKB", "P4"), api.ErrState)
	w.fails(request(message.Resume, "BANKB", "P4"), api.ErrState)
	w.fails(submit(held), api.ErrDuplicate)
	w.ok(command{Kind: engine.SetBilateral, From: "BANKB", To: "BANKC", Amount: 7})
	w.want(submit(pay("P5", "BANKB", "BANKC", 8, monday)), " accepted BANKB/P5;")
	w.want(command{Kind: engine.SetBilateral, From: "BANKB", To: "BANKC", Amount: 8}, " settled BANKB/P5;")
	if p, ok := w.e.Payment("BANKB/P5"); ok || p.Ref != "" {
		t.Error("Payment", p)
	}
	if _, found := w.e.State("BANKB", "NONE"); found {
		t.Error("State of nothing")
	}
}

// P51.2: orders for later days.
func TestFuture(t *testing.T) {
	w := newWorld(t)
	w.cash("BANKA", 100)
	w.units("BANKB", isin, 5)
	w.want(submit(pay("P1", "BANKA", "BANKB", 10, monday+1)), " accepted BANKA/P1;")
	held := pay("P2", "BANKA", "BANKB", 20, monday+1)
	held.Hold = true
	w.ok(submit(held))
	w.ok(submit(pay("P3", "BANKA", "BANKB", 30, monday+2)))
	w.ok(submit(delivery("D1", "BANKB", "BANKA", 5, 7, monday+1)))
	w.want(submit(receipt("R1", "BANKA", "BANKB", 5, 7, monday+1)), " accepted BANKA/R1; matched BANKB/D1;")
	for _, x := range [][2]string{{"BANKA", "P1"}, {"BANKA", "P2"}, {"BANKA", "P3"}, {"BANKB", "D1"}, {"BANKA", "R1"}} {
		w.state(x[0], x[1], lifecycle.Held)
	}
	w.fails(request(message.Resume, "BANKA", "P1"), api.ErrState)
	w.want(request(message.Hold, "BANKA", "P3"), " changed BANKA/P3;")
	w.want(request(message.Hold, "BANKB", "D1"), " changed BANKB/D1;")
	w.want(request(message.Resume, "BANKB", "D1"), " changed BANKB/D1;")
	w.state("BANKB", "D1", lifecycle.Held)
	if p, _ := w.e.Payment("BANKA/P1"); p.Hold {
		t.Error("the instruction is changed")
	}
	s := w.at(monday+1, 300)
	if !strings.HasSuffix(s, " phase start; changed BANKA/P1; changed BANKA/P2; changed BANKB/D1; phase entry;") {
		t.Error(s)
	}
	w.state("BANKA", "P1", lifecycle.Waiting)
	w.state("BANKA", "P2", lifecycle.Held)
	w.state("BANKA", "R1", lifecycle.Waiting)
	if s := w.at(monday+1, 420); s != " phase realtime; settled BANKA/P1; settled BANKB/D1;" {
		t.Error(s)
	}
	w.want(request(message.Resume, "BANKA", "P2"), " changed BANKA/P2; settled BANKA/P2;")
	w.at(monday+2, 420)
	w.state("BANKA", "P3", lifecycle.Held)
	w.want(request(message.Resume, "BANKA", "P3"), " changed BANKA/P3; settled BANKA/P3;")
}

// P51.2: matching, amendment and cancellation of trades.
func TestTrades(t *testing.T) {
	w := newWorld(t)
	w.units("BANKA", isin, 47)
	w.cash("BANKB", 350)
	w.want(submit(receipt("R1", "BANKB", "BANKA", 100, 1000, monday)), " accepted BANKB/R1;")
	w.state("BANKB", "R1", lifecycle.Unmatched)
	w.fails(request(message.Hold, "BANKB", "R1"), api.ErrState)
	w.fails(amend("BANKB", "R1", message.Amendment{HasSettleDay: true, SettleDay: monday + 5}), api.ErrDate)
	w.want(amend("BANKB", "R1", message.Amendment{HasPartial: true, Partial: true, MinLot: 10}), " changed BANKB/R1;")
	d := delivery("D1", "BANKA", "BANKB", 100, 1999, monday)
	d.Partial, d.MinLot, d.Hold = true, 5, true
	w.want(submit(d), " accepted BANKA/D1;")
	w.want(amend("BANKA", "D1", message.Amendment{HasAmount: true, Amount: 999}), " changed BANKA/D1; matched BANKA/D1;")
	w.state("BANKB", "R1", lifecycle.Held)
	w.fails(request(message.Resume, "BANKB", "R1"), api.ErrState)
	w.want(request(message.Hold, "BANKB", "R1"), " changed BANKA/D1;")
	w.want(request(message.Resume, "BANKA", "D1"), " changed BANKA/D1;")
	w.state("BANKA", "D1", lifecycle.Held)
	w.want(request(message.Resume, "BANKB", "R1"), " changed BANKA/D1; part BANKA/D1 30;")
	w.state("BANKB", "R1", lifecycle.Partly)
	if x, ok := w.e.Trade("BANKA/D1"); !ok || x.Quantity != 70 || x.Amount != 700 {
		t.Error("Trade", x)
	}
	w.want(request(message.Hold, "BANKA", "D1"), " changed BANKA/D1;")
	w.want(request(message.Resume, "BANKA", "D1"), " changed BANKA/D1;")
	w.state("BANKA", "D1", lifecycle.Partly)
	w.want(request(message.Cancel, "BANKA", "D1"), " changed BANKA/D1;")
	w.fails(request(message.Cancel, "BANKA", "D1"), api.ErrState)
	w.state("BANKA", "D1", lifecycle.Partly)
	w.want(request(message.Cancel, "BANKB", "R1"), " cancelled BANKA/D1;")
	w.state("BANKA", "D1", lifecycle.Cancelled)
	w.state("BANKB", "R1", lifecycle.Cancelled)
	w.want(submit(delivery("D2", "BANKA", "BANKC", 1, 0, monday)), " accepted BANKA/D2;")
	w.want(request(message.Cancel, "BANKA", "D2"), " cancelled BANKA/D2;")
	w.fails(amend("BANKA", "D2", message.Amendment{HasPriority: true}), api.ErrState)
	w.ok(submit(delivery("D3", "BANKA", "BANKC", 10, 0, monday)))
	w.want(submit(receipt("R3", "BANKC", "BANKA", 10, 0, monday)), " accepted BANKC/R3; matched BANKA/D3; settled BANKA/D3;")
	w.state("BANKC", "R3", lifecycle.Settled)
	w.ok(submit(delivery("D4", "BANKA", "BANKC", 10, 500, monday)))
	w.want(submit(receipt("R4", "BANKC", "BANKA", 10, 700, monday)), " accepted BANKC/R4; matched BANKA/D4;")
	w.fails(submit(receipt("R4", "BANKC", "BANKA", 10, 700, monday)), api.ErrDuplicate)
}

// P51.2: links lead to trades of matched instructions.
func TestLinks(t *testing.T) {
	w := newWorld(t)
	w.units("BANKA", isin, 100)
	w.cash("BANKB", 500)
	link := func(i message.Instruction, kind int, refs ...string) message.Instruction {
		for _, r := range refs {
			i.Links = append(i.Links, message.Link{Type: kind, Ref: r})
		}
		return i
	}
	w.ok(submit(delivery("D1", "BANKA", "BANKB", 10, 100, monday)))
	w.ok(submit(link(receipt("R1", "BANKB", "BANKA", 10, 100, monday), message.After, "P9")))
	w.state("BANKB", "R1", lifecycle.Waiting)
	// R1 is matched, so that the link leads to the trade BANKA/D1.
	w.want(submit(link(pay("P1", "BANKB", "BANKC", 5, monday), message.After, "R1")), " accepted BANKB/P1;")
	w.want(submit(pay("P9", "BANKB", "BANKC", 1, monday)), " accepted BANKB/P9; settled BANKA/D1; settled BANKB/P1; settled BANKB/P9;")
	w.ok(submit(link(delivery("D2", "BANKA", "BANKB", 10, 100, monday), message.With, "P2")))
	w.want(submit(receipt("R2", "BANKB", "BANKA", 10, 100, monday)), " accepted BANKB/R2; matched BANKA/D2;")
	w.want(submit(pay("P2", "BANKA", "BANKC", 7, monday)), " accepted BANKA/P2; settled BANKA/D2; settled BANKA/P2;")
}

// P51.2: collateral and credit.
func TestCredit(t *testing.T) {
	w := newWorld(t)
	w.units("BANKA", isin, 20)
	w.units("BANKB", isin, 1)
	w.fails(submit(pledge(message.Pledge, "G", "ISSUER", 5)), api.ErrIneligible)
	w.want(submit(pledge(message.Pledge, "G1", "BANKA", 5)), " accepted BANKA/G1; posted BANKA/G1 5;")
	w.state("BANKA", "G1", lifecycle.Settled)
	if w.e.Accounts().Line("BANKA") != 45 {
		t.Error("line", w.e.Accounts().Line("BANKA"))
	}
	w.fails(submit(pledge(message.Pledge, "G2", "BANKA", 16)), api.ErrFunds)
	w.fails(submit(pledge(message.Release, "G2", "BANKB", 1)), api.ErrNotFound)
	w.want(submit(pledge(message.Release, "G2", "BANKA", 1)), " accepted BANKA/G2; posted BANKA/G2 1;")
	w.want(submit(pay("P1", "BANKA", "BANKB", 37, monday)), " accepted BANKA/P1;")
	w.want(command{Kind: engine.SetAuto, From: "BANKA", Amount: 1}, " pledged BANKA; settled BANKA/P1;")
	w.balance("BANKA", api.Pledged, isin, 5)
	w.want(command{Kind: engine.SetPrice, Asset: isin, Amount: 5}, "")
	if w.e.Accounts().Line("BANKA") != 37 {
		t.Error("line", w.e.Accounts().Line("BANKA"))
	}
	// Without an effective price the security is worth nothing, and it is not pledged automatically.
	w.at(monday+4, 420)
	if w.e.Accounts().Line("BANKA") != 0 {
		t.Error("line after the closing", w.e.Accounts().Line("BANKA"))
	}
	w.ok(command{Kind: engine.SetPrice, Asset: other, Amount: 10})
	w.units("BANKA", other, 10)
	w.at(monday+9, 420)
	w.want(submit(pay("P2", "BANKA", "BANKB", 10, monday+9)), " accepted BANKA/P2; pledged BANKA; settled BANKA/P2;")
	w.balance("BANKA", api.Pledged, other, 2)
	w.fails(submit(message.Instruction{Ref: "G3", Kind: message.Pledge, Sender: "BANKA", Asset: isin, Quantity: 1, SettleDay: monday + 9}), api.ErrStale)
}

// P51.2: a closing with everything that it does.
func TestClosing(t *testing.T) {
	w := newWorld(t)
	w.cash("BANKA", 50)
	w.cash("BANKC", 5)
	w.units("BANKB", isin, 10)
	w.ok(command{Kind: engine.Reserve, From: "BANKA", Amount: 20})
	w.ok(command{Kind: engine.SetAuto, From: "BANKB", Amount: 1})
	w.ok(submit(pay("P1", "BANKA", "BANKC", 40, monday)))
	w.ok(submit(pay("P2", "BANKA", "BANKC", 99, monday)))
	w.ok(submit(pay("P3", "BANKB", "BANKC", 12, monday)))
	w.ok(submit(delivery("D1", "BANKC", "BANKB", 5, 36000, monday)))
	w.ok(submit(receipt("R1", "BANKB", "BANKC", 5, 36000, monday)))
	w.ok(submit(delivery("D2", "BANKC", "BANKB", 5, 7, monday)))
	w.balance("BANKB", api.Free, api.Cash, -12)
	s := w.at(monday, 1439)
	want := " phase cutoff-dvp; phase cutoff-pay; phase close; released BANKA 20; settled BANKA/P1; seized BANKB 12; failed BANKA/P2; failed BANKC/D2;"
	if s != want {
		t.Error(s, "want", want)
	}
	w.state("BANKA", "P2", lifecycle.Failed)
	w.state("BANKC", "D2", lifecycle.Failed)
	w.state("BANKC", "D1", lifecycle.Waiting)
	w.balance("CB", api.Free, isin, 2)
	w.balance("BANKB", api.Free, api.Cash, 0)
	w.balance("CB", api.Issued, api.Cash, -67)
	if w.e.Limits().Net("BANKA", "BANKC") != 0 {
		t.Error("net amounts")
	}
	// The next day, the trade is late by a business day: the deliverer lacks the units.
	s = w.at(monday+1, 1439)
	if !strings.HasSuffix(s, " phase close; charged BANKC/D1 1;") {
		t.Error(s)
	}
	w.units2(t)
}

// units2 gives the deliverer the units at night, so that the receiver lacks cash.
func (w *world) units2(t *testing.T) {
	t.Helper()
	w.at(monday+2, 420)
	w.units("BANKC", isin, 5)
	w.cash("BANKB", 10)
	s := w.at(monday+2, 1439)
	if !strings.HasSuffix(s, " phase close; charged BANKC/D1 2;") {
		t.Error(s)
	}
	s = w.at(monday+14, 0)
	if strings.Contains(s, "failed") {
		t.Error("too early", s)
	}
	s = w.at(monday+14, 1439)
	if !strings.Contains(s, " failed BANKC/D1;") {
		t.Error(s)
	}
	w.state("BANKB", "R1", lifecycle.Failed)
}

// P51.2: pledges that are released, and automatic ones that are not needed.
func TestUnwinding(t *testing.T) {
	w := newWorld(t)
	w.units("BANKB", isin, 10)
	w.ok(command{Kind: engine.SetAuto, From: "BANKB", Amount: 1})
	w.want(submit(pay("P1", "BANKB", "BANKC", 30, monday)), " accepted BANKB/P1; pledged BANKB; settled BANKB/P1;")
	w.want(submit(pay("P2", "BANKC", "BANKB", 30, monday)), " accepted BANKC/P2; settled BANKC/P2;")
	if s := w.at(monday, 1439); !strings.HasSuffix(s, " phase close; released BANKB;") {
		t.Error(s)
	}
	w.balance("BANKB", api.Free, isin, 10)
}

func (w *world) announce(a corpaction.Event) {
	w.t.Helper()
	w.ok(command{Kind: engine.Announce, Action: a})
}

func dividend(id string, record, payDay int) corpaction.Event {
	return corpaction.Event{Id: id, Kind: corpaction.Dividend, Issuer: "ISSUER", Asset: isin, Cash: frac(1, 2), ExDay: monday, RecordDay: record, PayDay: payDay}
}

// P51.2: errors of announcements.
func TestAnnounce(t *testing.T) {
	w := newWorld(t)
	a := dividend("E1", monday, monday+1)
	wrong, unknown := a, a
	wrong.Issuer = "BANKA"
	unknown.Asset = "US5949181045"
	split := corpaction.Event{Id: "S", Kind: corpaction.Split, Issuer: "ISSUER", Asset: isin, Ratio: frac(2, 1), ExDay: monday, RecordDay: monday, PayDay: monday + 1}
	rights := corpaction.Event{Id: "R", Kind: corpaction.Rights, Issuer: "ISSUER", Asset: isin, Into: "US5949181045", Ratio: frac(2, 1), ExDay: monday, RecordDay: monday, PayDay: monday + 1}
	merger := rights
	merger.Kind, merger.Cash, merger.Into = corpaction.Merger, frac(0, 1), other
	old := a
	old.ExDay = monday - 1
	for n, x := range []struct {
		a    corpaction.Event
		code api.Errno
	}{{unknown, api.ErrNotFound}, {wrong, api.ErrIneligible}, {rights, api.ErrNotFound}, {split, api.ErrDate}, {merger, api.ErrDate}, {old, api.ErrStale}} {
		t.Log(n)
		w.fails(command{Kind: engine.Announce, Action: x.a}, x.code)
	}
	w.want(command{Kind: engine.Announce, Action: a}, "")
	w.fails(command{Kind: engine.Announce, Action: a}, api.ErrDuplicate)
	w.fails(command{Kind: engine.Withdraw, From: "x"}, api.ErrNotFound)
	w.want(command{Kind: engine.Withdraw, From: "E1"}, "")
	if _, state, _ := w.e.Actions().Get("E1"); state != corpaction.Withdrawn {
		t.Error("state", state)
	}
	rights.Into = other
	w.announce(rights)
}

// P51.2: recording and paying.
func TestActions(t *testing.T) {
	w := newWorld(t)
	w.units("BANKA", isin, 9)
	w.units("BANKB", isin, 4)
	w.ok(submit(pledge(message.Pledge, "G", "BANKA", 4)))
	w.announce(dividend("E1", monday, monday+1))
	w.announce(dividend("E2", monday+1, monday+1))
	split := corpaction.Event{Id: "E3", Kind: corpaction.Split, Issuer: "ISSUER", Asset: isin, Ratio: frac(3, 1), ExDay: monday, RecordDay: monday + 2, PayDay: monday + 2}
	w.announce(split)
	w.ok(submit(delivery("D1", "BANKB", "BANKA", 50, 100, monday)))
	w.ok(submit(receipt("R1", "BANKA", "BANKB", 50, 100, monday)))
	if s := w.at(monday, 1439); !strings.HasSuffix(s, " recorded E1 3;") {
		t.Error(s)
	}
	// The issuer has no cash at the start of the next day, and so pays at its close.
	s := w.at(monday+1, 420)
	if strings.Contains(s, "paid") {
		t.Error(s)
	}
	w.cash("ISSUER", 100)
	s = w.at(monday+1, 1439)
	if !strings.HasSuffix(s, " phase close; recorded E2 3; paid E1; paid E2;") {
		t.Error(s)
	}
	w.balance("BANKA", api.Free, api.Cash, 8)
	w.balance("BANKB", api.Free, api.Cash, 4)
	s = w.at(monday+2, 1439)
	if !strings.Contains(s, " recorded E3 3; paid E3; adjusted BANKB/D1 150;") {
		t.Error(s)
	}
	w.balance("BANKA", api.Pledged, isin, 12)
	if x, _ := w.e.Trade("BANKB/D1"); x.Quantity != 150 || x.Amount != 100 || w.e.Accounts().Line("BANKA") != 108 {
		t.Error(x, w.e.Accounts().Line("BANKA"))
	}
}

// P51.2: a merger moves open trades into the other security; those that become nothing fail.
func TestMerger(t *testing.T) {
	w := newWorld(t)
	w.units("BANKB", isin, 4)
	w.announce(corpaction.Event{Id: "M", Kind: corpaction.Merger, Issuer: "ISSUER", Asset: isin, Into: other, Ratio: frac(1, 3), Cash: frac(1, 1), ExDay: monday, RecordDay: monday, PayDay: monday})
	for n, q := range []int64{60, 2} {
		w.ok(submit(delivery("D"+strconv.Itoa(n), "BANKA", "BANKC", q, 100, monday)))
		w.ok(submit(receipt("R"+strconv.Itoa(n), "BANKC", "BANKA", q, 100, monday)))
	}
	w.cash("ISSUER", 100)
	if s := w.at(monday, 1439); !strings.HasSuffix(s, " recorded M 1; paid M; adjusted BANKA/D0 20; failed BANKA/D1;") {
		t.Error(s)
	}
	if x, _ := w.e.Trade("BANKA/D0"); x.Asset != other || x.Amount != 40 {
		t.Error(x)
	}
	w.state("BANKC", "R1", lifecycle.Failed)
	w.balance("BANKB", api.Free, other, 1)
	w.at(monday+1, 300)
	w.fails(request(message.Cancel, "BANKA", "D1"), api.ErrState)
}

// P51.2: errors of Advance.
func TestAdvance(t *testing.T) {
	w := newWorld(t)
	w.fails(command{Kind: engine.Advance, Clock: api.Clock{Day: monday, Minute: 419}}, api.ErrStale)
	w.fails(command{Kind: engine.Advance, Clock: api.Clock{Day: monday + 401}}, api.ErrLimit)
	w.want(command{Kind: engine.Advance, Clock: api.Clock{Day: monday, Minute: 420}}, "")
	l, _ := w.e.Step(command{Kind: engine.Advance, Clock: api.Clock{Day: monday + 1, Minute: 200}})
	if text(l) != " phase cutoff-dvp; phase cutoff-pay; phase close; phase start;" || l[3].Clock != (api.Clock{Day: monday + 1, Minute: 150}) || l[0].Clock != (api.Clock{Day: monday, Minute: 960}) {
		t.Error(l)
	}
}

// P51.4
func TestEncoding(t *testing.T) {
	full := submit(delivery("D1", "BANKA", "BANKB", 5, 6, monday))
	full.Request.Instruction.Links = []message.Link{{Type: 1, Ref: "X"}, {Type: 0, Ref: "Y"}}
	full.Request.Instruction.Partial, full.Request.Instruction.MinLot, full.Request.Instruction.Hold, full.Request.Instruction.Priority = true, 2, true, 2
	list := append(commands(), full, amend("BANKA", "D1", message.Amendment{HasAmount: true, Amount: 5, HasPartial: true, Partial: true, MinLot: 3, HasSettleDay: true, SettleDay: 4, HasPriority: true, Priority: 1}), request(message.Cancel, "BANKA", "D1"))
	seen := map[string]bool{}
	for n, c := range list {
		b, code := engine.EncodeCommand(c)
		d, code2 := engine.DecodeCommand(b)
		again, _ := engine.EncodeCommand(d)
		if code != api.OK || code2 != api.OK || string(again) != string(b) || d.Kind != c.Kind || !message.EqualRequests(d.Request, c.Request) || d.Action != c.Action || d.Member != c.Member || d.Security != c.Security || d.Ratio != c.Ratio || d.Clock != c.Clock || d.From+d.To+d.Asset != c.From+c.To+c.Asset || d.Amount != c.Amount || seen[string(b)] {
			t.Error("command", n, code, code2)
		}
		seen[string(b)] = true
		for k := range b {
			if x, code := engine.DecodeCommand(b[:k]); code != api.ErrTruncated || x.Kind != 0 {
				t.Error("prefix", n, k, code)
			}
		}
		if _, code := engine.DecodeCommand(append(b, 0)); code != api.ErrLong {
			t.Error("longer", n, code)
		}
	}
	// The beginning of an encoding by the chapter: the kind, the clock, the member.
	b, _ := engine.EncodeCommand(commands()[1])
	w := codec.NewWriter()
	for _, x := range []int64{1, 0, 0} {
		w.Int(x)
	}
	w.String("BANKX")
	w.String("")
	w.Bool(true)
	if !strings.HasPrefix(string(b), string(w.Bytes())) {
		t.Error("encoding", b)
	}
	if b, code := engine.EncodeCommand(command{Kind: 99}); len(b) != 0 || code != api.ErrKind {
		t.Error("invalid", code)
	}
	invalid := commands()[5]
	b, _ = engine.EncodeCommand(invalid)
	b[0] = 2 * 99
	if _, code := engine.DecodeCommand(b); code == api.OK {
		t.Error("invalid kind is decoded")
	}
	x := event{3, api.Clock{Day: 5, Minute: 6}, 7, "R", 8, []api.Posting{{Account: api.Account{Owner: "A", Kind: 2, Asset: "X"}, Delta: -9}}}
	got, code := engine.EncodeEvent(x)
	v := codec.NewWriter()
	for _, n := range []int64{3, 5, 6, 7} {
		v.Int(n)
	}
	v.String("R")
	v.Int(8)
	v.Uint(1)
	v.String("A")
	v.Int(2)
	v.String("X")
	v.Int(-9)
	if string(got) != string(v.Bytes()) || code != api.OK {
		t.Error("EncodeEvent", got)
	}
}

// P51.4 P51.5 P51.6
func TestSnapshot(t *testing.T) {
	w := newWorld(t)
	w.cash("BANKA", 100)
	w.ok(submit(pay("P1", "BANKA", "BANKB", 60, monday)))
	b, code := w.e.Snapshot()
	r, code2 := engine.Restore(week(t), schedule.Default(), b)
	if code != api.OK || code2 != api.OK || !r.Equal(w.e) || !r.Accounts().Equal(w.e.Accounts()) || !r.History().Equal(w.e.History()) || r.Hash() != w.e.Hash() {
		t.Fatal("Restore", code, code2)
	}
	hash := sha256.Sum(nil)
	for n := range w.e.Commands() {
		c, _ := w.e.Command(n)
		all := hash[:]
		e, _ := engine.EncodeCommand(c)
		all = append(slices.Clone(all), e...)
		for _, x := range w.e.Events(n) {
			y, _ := engine.EncodeEvent(x)
			all = append(all, y...)
		}
		hash = sha256.Sum(all)
	}
	if hash != w.e.Hash() {
		t.Error("Hash")
	}
	for k, want := range map[int]api.Errno{0: api.ErrTruncated, len(b) - 1: api.ErrTruncated} {
		if e, code := engine.Restore(week(t), schedule.Default(), b[:k]); e != nil || code != want {
			t.Error("prefix", k, code)
		}
	}
	if e, code := engine.Restore(nil, schedule.Schedule{}, nil); e != nil || code != api.ErrArgument {
		t.Error("Restore", code)
	}
	if e, code := engine.Restore(week(t), schedule.Default(), append(slices.Clone(b), 0)); e != nil || code != api.ErrLong {
		t.Error("Restore", code)
	}
	blobs := func(l ...[]byte) []byte {
		x := codec.NewWriter()
		codec.WriteSlice(x, l, func(x *codec.Writer, b []byte) { x.Blob(b) })
		return x.Bytes()
	}
	first, _ := engine.EncodeCommand(commands()[5])
	if e, code := engine.Restore(week(t), schedule.Default(), blobs(first, []byte{1})); code != api.ErrTruncated || e != nil {
		t.Error("second command", code)
	}
	second, _ := engine.EncodeCommand(commands()[9])
	if e, code := engine.Restore(week(t), schedule.Default(), blobs(first, second)); code != api.ErrClosed || e != nil {
		t.Error("refused command", code)
	}
	if e, code := engine.Restore(week(t), schedule.Default(), codec.NewWriter().Bytes()); e != nil || code != api.ErrTruncated {
		t.Error("nothing", code)
	}
}

// P51.3 P51.6 P51.8
func TestAccessors(t *testing.T) {
	w := newWorld(t)
	w.cash("BANKA", 100)
	c := w.e.Clone()
	w.e.Accounts().Issue("CB", api.Cash, "BANKA", 5)
	w.e.Limits().SetMultilateral("BANKA", 0)
	w.e.Table().SetMember(monday, refdata.Member{Code: "BANKA"})
	w.e.Events(w.e.Commands() - 1)[0].Postings[0].Delta = 99
	if !w.e.Equal(c) || w.e.Accounts().Balance(api.Account{Owner: "BANKA", Asset: api.Cash}) != 100 || len(w.e.Limits().Limits()) != 0 || w.e.Events(w.e.Commands() - 1)[0].Postings[0].Delta != -100 {
		t.Error("memory is shared")
	}
	w.cash("BANKB", 7)
	if w.e.Equal(c) || c.Accounts().Balance(api.Account{Owner: "BANKB", Asset: api.Cash}) != 0 {
		t.Error("the clone depends on the original")
	}
	c.Step(command{Kind: engine.Issue, From: "CB", To: "BANKC", Asset: api.Cash, Amount: 8})
	if last, _ := w.e.Command(w.e.Commands() - 1); last.To != "BANKB" {
		t.Error("commands are shared", last)
	}
	for _, n := range []int{-1, w.e.Commands()} {
		if x, ok := w.e.Command(n); ok || x.Kind != 0 || len(w.e.Events(n)) != 0 {
			t.Error("Command", n)
		}
	}
	p, ids := w.e.Problem()
	if len(p.Items) != 0 || len(ids) != 0 {
		t.Error("Problem")
	}
	var none *engine.Engine
	l, code := none.Step(command{Kind: 99})
	b, code2 := none.Snapshot()
	_, ok1 := none.Command(0)
	_, ok2 := none.State("", "")
	_, ok3 := none.Trade("")
	_, ok4 := none.Payment("")
	if len(l) != 0 || code != api.ErrArgument || len(b) != 0 || code2 != api.ErrArgument || ok1 || ok2 || ok3 || ok4 || none.Clock() != (api.Clock{}) || none.Phase() != 0 || none.Commands() != 0 || len(none.Events(0)) != 0 || none.Accounts() != nil || none.History() != nil || none.Table() != nil || none.Limits() != nil || none.Actions() != nil || len(none.Orders()) != 0 || none.AtRest() || none.Hash() != (sha256.Digest{}) || none.Clone() != nil || !none.Equal(nil) || none.Equal(c) || c.Equal(nil) {
		t.Error("nil engine")
	}
}

// P51.7 T1 T2 T3 T24: random commands.
func TestRandom(t *testing.T) {
	for seed := range uint64(6) {
		w := newWorld(t)
		x := seed
		next := func(n int) int { x = x*6364136223846793005 + 1442695040888963407; return int(x>>33) % n }
		members := []string{"BANKA", "BANKB", "BANKC"}
		for _, m := range members {
			w.cash(m, int64(20+next(100)))
			w.units(m, isin, int64(20+next(50)))
			w.ok(command{Kind: engine.SetAuto, From: m, Amount: int64(next(2))})
		}
		day, minute := monday, 420
		for n := range 120 {
			a := next(3)
			from, to := members[a], members[(a+1+next(2))%3]
			ref := strconv.Itoa(next(40))
			switch next(9) {
			case 0, 1:
				i := pay("P"+ref, from, to, int64(1+next(60)), day)
				i.Priority, i.Hold = next(3), next(5) == 0
				w.step(submit(i))
			case 2, 3:
				q, amount := int64(1+next(30)), int64(next(80))
				d, r := delivery("D"+ref, from, to, q, amount, day), receipt("R"+ref, to, from, q, amount, day)
				if next(2) == 0 {
					d.Partial, d.MinLot, r.Partial, r.MinLot = true, 1, true, 1
				}
				d.TradeDay, r.TradeDay = day, day
				w.step(submit(d))
				w.step(submit(r))
			case 4:
				w.step(request(1+next(4), from, []string{"P", "D", "R"}[next(3)]+ref))
			case 5:
				i := pledge(message.Pledge+next(2), "G"+strconv.Itoa(n), from, int64(1+next(5)))
				i.SettleDay = day
				w.step(submit(i))
			case 6:
				w.step(command{Kind: []int{engine.Reserve, engine.Unreserve}[next(2)], From: from, Amount: int64(1 + next(20))})
			case 7:
				w.step(command{Kind: engine.SetPrice, Asset: isin, Amount: int64(1 + next(12))})
			case 8:
				if minute += next(300); minute > 1200 {
					day, minute = day+1, 420
					if day%7 == (monday+5)%7 {
						day += 2
					}
				}
				w.at(day, minute)
			}
		}
		b, _ := w.e.Snapshot()
		r, code := engine.Restore(week(t), schedule.Default(), b)
		if code != api.OK || !r.Equal(w.e) || !r.Accounts().Equal(w.e.Accounts()) || !slices.Equal(r.Orders(), w.e.Orders()) {
			t.Error("restored", seed, code)
		}
	}
}

// Example 1
func TestExample(t *testing.T) {
	cal, _ := calendar.New(nil, nil)
	e, _ := engine.New(cal, schedule.Default())
	e.Step(command{Kind: engine.Advance, Clock: api.Clock{Minute: 420}})
	if e.Phase() != schedule.Realtime {
		t.Error("phase", e.Phase())
	}
	for _, m := range []string{"BANKA", "BANKB"} {
		e.Step(command{Kind: engine.SetMember, Member: refdata.Member{Code: m, Active: true}})
	}
	e.Step(command{Kind: engine.Issue, From: account.CentralBank, To: "BANKA", Asset: api.Cash, Amount: 100})
	l, code := e.Step(submit(pay("P1", "BANKA", "BANKB", 60, 0)))
	if s, _ := e.State("BANKA", "P1"); text(l) != " accepted BANKA/P1; settled BANKA/P1;" || code != api.OK || s != lifecycle.Settled {
		t.Error(text(l), code, s)
	}
}
