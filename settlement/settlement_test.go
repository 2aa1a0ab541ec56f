package settlement_test

import (
	"maps"
	"slices"
	"strconv"
	"testing"

	"giro/account"
	"giro/api"
	"giro/collateral"
	"giro/credit"
	"giro/feasible"
	"giro/limit"
	"giro/matching"
	"giro/message"
	"giro/offset"
	"giro/resource"
	"giro/settlement"
)

type (
	event = settlement.Event
	link  = message.Link
)

const (
	isin  = "US0378331005"
	other = "XS0000000009"
)

// world is an engine with its accounts and limits.
type world struct {
	t *testing.T
	a *account.Accounts
	l *limit.Table
	e *settlement.Engine
}

func newWorld(t *testing.T, lender settlement.Lender) *world {
	t.Helper()
	w := &world{t: t, a: account.New(), l: limit.New()}
	e, code := settlement.New(w.a, w.l, lender)
	if code != api.OK || e == nil {
		t.Fatal("New", code)
	}
	w.e = e
	return w
}

func (w *world) cash(owner string, x int64) {
	w.t.Helper()
	w.want("cash", w.a.Issue("CB", api.Cash, owner, x), api.OK)
}

func (w *world) units(owner, asset string, x int64) {
	w.t.Helper()
	w.want("units", w.a.Issue("ISSUER", asset, owner, x), api.OK)
}

func (w *world) want(what string, got, code api.Errno) {
	w.t.Helper()
	if got != code {
		w.t.Errorf("%s: error %d, want %d", what, got, code)
	}
}

// refused checks that a call is refused and changes nothing.
func (w *world) refused(what string, code api.Errno, f func() api.Errno) {
	w.t.Helper()
	before, accounts := w.e.Clone(w.a, w.l, nil), w.a.Clone()
	w.want(what, f(), code)
	if !w.e.Equal(before) || !w.a.Equal(accounts) {
		w.t.Error(what, "changes something")
	}
}

func pay(ref, from, to string, x int64) message.Instruction {
	return message.Instruction{Ref: ref, Kind: message.Payment, Sender: from, Counterparty: to, Asset: api.Cash, Amount: x}
}

func (w *world) pay(seq int, from, to string, x int64, links ...link) {
	w.t.Helper()
	w.want("payment", w.e.SubmitPayment(pay("P"+strconv.Itoa(seq), from, to, x), seq, links), api.OK)
}

func trade(ref, from, to string, quantity, amount, lot int64) matching.Trade {
	t := matching.Trade{Kind: message.DvP, Deliverer: from, Receiver: to, Asset: isin, Quantity: quantity, Amount: amount, Partial: lot > 0, MinLot: lot, Refs: [2]string{ref, "R" + ref}}
	if amount == 0 {
		t.Kind = message.Free
	}
	return t
}

func (w *world) trade(seq int, from, to string, quantity, amount, lot int64, links ...link) {
	w.t.Helper()
	w.want("trade", w.e.SubmitTrade(trade("T"+strconv.Itoa(seq), from, to, quantity, amount, lot), seq, links, false), api.OK)
}

// run runs the engine and returns the events, with the bundles as texts: "id id; id".
func (w *world) run() []event {
	w.t.Helper()
	l, code := w.e.Run()
	if code != api.OK {
		w.t.Error("Run", code)
	}
	if !w.e.AtRest() {
		w.t.Error("something can still settle")
	}
	return l
}

func text(l []event) string {
	s := ""
	for n, x := range l {
		if n > 0 && (x.Sequence != l[n-1].Sequence || x.Kind != l[n-1].Kind) {
			s += ";"
		}
		switch x.Kind {
		case settlement.Part:
			s += " part " + x.Id + " " + strconv.FormatInt(x.Quantity, 10)
		case settlement.Pledged:
			s += " pledged " + x.Id
		default:
			s += " " + x.Id
		}
	}
	return s
}

func (w *world) settles(want string) {
	w.t.Helper()
	if got := text(w.run()); got != want {
		w.t.Errorf("run:%s, want:%s", got, want)
	}
}

func free(owner, asset string) api.Account {
	return api.Account{Owner: owner, Kind: api.Free, Asset: asset}
}

func with(ref string) link { return link{Type: message.With, Ref: ref} }

func after(ref string) link { return link{Type: message.After, Ref: ref} }

// P40.1 P40.2
func TestSubmit(t *testing.T) {
	if e, code := settlement.New(nil, limit.New(), nil); e != nil || code != api.ErrArgument {
		t.Error("New", code)
	}
	if e, code := settlement.New(account.New(), nil, nil); e != nil || code != api.ErrArgument {
		t.Error("New", code)
	}
	w := newWorld(t, nil)
	w.pay(5, "BANKA", "BANKB", 7)
	bad, free := pay("", "BANKA", "BANKB", 1), message.Instruction{Ref: "F", Kind: message.Free, Sender: "BANKA", Counterparty: "BANKB", Asset: isin, Quantity: 1}
	many := make([]link, settlement.MaxLinks+1)
	submit := func(i message.Instruction, seq int, links ...link) func() api.Errno {
		return func() api.Errno { return w.e.SubmitPayment(i, seq, links) }
	}
	good := pay("P6", "BANKA", "BANKB", 1)
	w.refused("check", api.ErrUnknown, submit(bad, 0))
	w.refused("kind", api.ErrKind, submit(free, 0))
	w.refused("seq", api.ErrRange, submit(pay("P5", "BANKA", "BANKB", 1), 0))
	w.refused("seq", api.ErrRange, submit(good, 1000000001))
	w.refused("id", api.ErrDuplicate, submit(pay("P5", "BANKA", "BANKB", 1), 6, many...))
	w.refused("seq", api.ErrDuplicate, submit(good, 5, many...))
	w.refused("links", api.ErrLimit, submit(good, 6, many...))
	w.refused("link type", api.ErrKind, submit(good, 6, link{Type: 2}, link{}))
	w.refused("link ref", api.ErrUnknown, submit(good, 6, link{Type: 1}, link{Type: 7, Ref: "x"}))
	w.refused("link itself", api.ErrCycle, submit(good, 6, with("BANKA/P6")))
	links := slices.Repeat([]link{with("x")}, settlement.MaxLinks)
	w.want("most links", w.e.SubmitPayment(good, 1000000000, links), api.OK)
	x := trade("T", "BANKA", "BANKB", 5, 5, 0)
	wrong := x
	wrong.Quantity = 0
	w.refused("trade", api.ErrRange, func() api.Errno { return w.e.SubmitTrade(wrong, 0, nil, false) })
	w.refused("trade seq", api.ErrRange, func() api.Errno { return w.e.SubmitTrade(x, 0, nil, false) })
	w.refused("trade duplicate", api.ErrDuplicate, func() api.Errno { return w.e.SubmitTrade(x, 5, nil, false) })
	x.Refs[0] = "P5"
	w.refused("same id as a payment", api.ErrDuplicate, func() api.Errno { return w.e.SubmitTrade(x, 7, nil, false) })
	x.Refs[0] = "T"
	w.want("trade", w.e.SubmitTrade(x, 7, nil, true), api.OK)
	held := pay("H", "BANKA", "BANKB", 1)
	held.Hold, held.Links = true, []link{with("Z")}
	w.want("held", w.e.SubmitPayment(held, 8, nil), api.OK)
	if w.e.State("BANKA/H") != settlement.Held || w.e.State("BANKA/T") != settlement.Held || w.e.State("BANKA/P5") != settlement.Waiting || w.e.State("BANKA/X") != settlement.Absent {
		t.Error("State")
	}
	i, ok := w.e.Payment("BANKA/H")
	y, isTrade := w.e.Trade("BANKA/T")
	_, wrong1 := w.e.Payment("BANKA/T")
	_, wrong2 := w.e.Trade("BANKA/H")
	if !message.Equal(i, held) || !ok || y != x || !isTrade || wrong1 || wrong2 || settlement.PaymentId(held) != "BANKA/H" {
		t.Error("Payment, Trade", i, y)
	}
	if !slices.Equal(w.e.Orders(), []string{"BANKA/P5", "BANKA/T", "BANKA/H", "BANKA/P6"}) {
		t.Error("Orders", w.e.Orders())
	}
}

// P40.2
func TestOrderLimit(t *testing.T) {
	w := newWorld(t, nil)
	for n := range settlement.MaxOrders {
		w.pay(n+1, "BANKA", "BANKB", 1)
	}
	w.want("limit", w.e.SubmitPayment(pay("X", "BANKA", "BANKB", 1), 9999, nil), api.ErrLimit)
	w.want("duplicate first", w.e.SubmitPayment(pay("P7", "BANKA", "BANKB", 1), 9999, nil), api.ErrDuplicate)
}

// P40.3
func TestChanges(t *testing.T) {
	w := newWorld(t, nil)
	w.cash("BANKA", 100)
	w.units("BANKB", isin, 100)
	w.pay(1, "BANKA", "BANKB", 30)
	w.trade(2, "BANKB", "BANKA", 50, 60, 10)
	for _, f := range []func(id string) api.Errno{w.e.Withdraw, w.e.Hold, w.e.Resume, func(id string) api.Errno { return w.e.Promote(id, 9) }, func(id string) api.Errno { return w.e.Adjust(id, "", 0, 0) }} {
		w.refused("not there", api.ErrNotFound, func() api.Errno { return f("BANKA/X") })
	}
	w.refused("not held", api.ErrState, func() api.Errno { return w.e.Resume("BANKA/P1") })
	w.want("Hold", w.e.Hold("BANKA/P1"), api.OK)
	w.refused("held", api.ErrState, func() api.Errno { return w.e.Hold("BANKA/P1") })
	w.refused("priority", api.ErrRange, func() api.Errno { return w.e.Promote("BANKA/P1", 3) })
	w.refused("priority", api.ErrRange, func() api.Errno { return w.e.Promote("BANKA/P1", -1) })
	w.want("Promote", w.e.Promote("BANKB/T2", 2), api.OK)
	if !slices.Equal(w.e.Orders(), []string{"BANKB/T2", "BANKA/P1"}) {
		t.Error("Orders", w.e.Orders())
	}
	w.refused("payment", api.ErrNotFound, func() api.Errno { return w.e.Adjust("BANKA/P1", isin, 5, 5) })
	w.refused("Adjust", api.ErrUnknown, func() api.Errno { return w.e.Adjust("BANKB/T2", api.Cash, 0, 5) })
	w.refused("Adjust", api.ErrRange, func() api.Errno { return w.e.Adjust("BANKB/T2", isin, 9, 5) })
	w.units("BANKB", other, 100)
	w.want("Adjust", w.e.Adjust("BANKB/T2", other, 77, 70), api.OK)
	if x, _ := w.e.Trade("BANKB/T2"); x.Asset != other || x.Quantity != 77 || x.Amount != 70 || x.MinLot != 10 {
		t.Error("Trade", x)
	}
	w.settles(" BANKB/T2")
	if w.a.Balance(free("BANKA", other)) != 77 || w.a.Balance(free("BANKA", api.Cash)) != 30 {
		t.Error("balances")
	}
	w.want("Resume", w.e.Resume("BANKA/P1"), api.OK)
	w.settles(" BANKA/P1")
	if w.e.State("BANKA/P1") != settlement.Done || len(w.e.Orders()) != 0 {
		t.Error("Done")
	}
	w.refused("done", api.ErrNotFound, func() api.Errno { return w.e.Withdraw("BANKA/P1") })
	w.want("done", w.e.SubmitPayment(pay("P1", "BANKA", "BANKB", 1), 1, nil), api.ErrDuplicate)
	w.pay(1000, "BANKA", "BANKB", 1)
	w.want("Withdraw", w.e.Withdraw("BANKA/P1000"), api.OK)
	w.settles("")
	w.pay(1000, "BANKB", "BANKA", 1)
}

// P40.4: groups, items, predecessors and rooms.
func TestProblem(t *testing.T) {
	w := newWorld(t, nil)
	w.cash("BANKA", 7)
	w.a.SetLine("BANKB", 3)
	w.l.SetBilateral("BANKA", "BANKB", 20)
	w.l.SetMultilateral("BANKB", 30)
	w.l.Record([]limit.Flow{{From: "BANKA", To: "BANKB", Amount: 4}})
	w.pay(4, "BANKA", "BANKB", 10, after("BANKB/P2"), after("BANKB/P3"), after("BANKB/P1"))
	w.pay(3, "BANKB", "BANKA", 6, with("BANKB/P1"), after("BANKB/P1"))
	w.pay(1, "BANKB", "BANKC", 5)
	w.pay(2, "BANKB", "BANKD", 1)
	w.e.Promote("BANKB/P2", 1)
	p, ids := w.e.Problem()
	post := func(owner string, d int64) api.Posting { return api.Posting{Account: free(owner, api.Cash), Delta: d} }
	bal := func(owner string) resource.Resource {
		return resource.Resource{Account: free(owner, api.Cash)}
	}
	want := resource.Problem{
		Items: []resource.Item{
			{Id: 2, Priority: 1, Seq: 2, Postings: []api.Posting{post("BANKB", -1), post("BANKD", 1)}, Payments: []resource.Payment{{From: "BANKB", To: "BANKD", Amount: 1}}},
			{Id: 1, Seq: 1, Postings: []api.Posting{post("BANKA", 6), post("BANKB", -11), post("BANKC", 5)}, Payments: []resource.Payment{{From: "BANKB", To: "BANKC", Amount: 5}, {From: "BANKB", To: "BANKA", Amount: 6}}},
			{Id: 4, Seq: 4, Postings: []api.Posting{post("BANKA", -10), post("BANKB", 10)}, Payments: []resource.Payment{{From: "BANKA", To: "BANKB", Amount: 10}}, After: []int{1, 2}},
		},
		Rooms: []resource.Room{{Resource: bal("BANKA"), Amount: 7}, {Resource: bal("BANKB"), Amount: 3}, {Resource: bal("BANKC")}, {Resource: bal("BANKD")}, {Resource: resource.Resource{Kind: resource.Bilateral, From: "BANKA", To: "BANKB"}, Amount: 16}, {Resource: resource.Resource{Kind: resource.Multilateral, From: "BANKB"}, Amount: 34}},
	}
	if !resource.Equal(p, want) || !slices.EqualFunc(ids, [][]string{{"BANKB/P2"}, {"BANKB/P1", "BANKB/P3"}, {"BANKA/P4"}}, slices.Equal[[]string]) {
		t.Error(p, ids)
	}
	p.Items[0].Postings[0].Delta, p.Items[0].Payments[0].Amount = 99, 99
	if again, _ := w.e.Problem(); !resource.Equal(again, want) {
		t.Error("memory is shared")
	}
}

// P40.4: which groups are items.
func TestCompleteness(t *testing.T) {
	items := func(w *world) []string {
		_, ids := w.e.Problem()
		var l []string
		for _, g := range ids {
			l = append(l, g...)
		}
		return l
	}
	check := func(w *world, what string, want ...string) {
		t.Helper()
		if got := items(w); !slices.Equal(got, want) {
			t.Error(what, got, want)
		}
	}
	w := newWorld(t, nil)
	w.pay(1, "BANKA", "BANKB", 1, with("BANKB/P2"))
	check(w, "missing partner")
	w.pay(2, "BANKB", "BANKA", 1)
	check(w, "partner", "BANKA/P1", "BANKB/P2")
	w.e.Hold("BANKB/P2")
	check(w, "held partner")
	w.e.Resume("BANKB/P2")
	w.pay(3, "BANKC", "BANKA", 1, after("BANKB/P2"))
	w.pay(4, "BANKD", "BANKA", 1, after("BANKC/P3"))
	w.pay(5, "BANKE", "BANKA", 1, after("BANKX/P9"))
	check(w, "after", "BANKA/P1", "BANKB/P2", "BANKC/P3", "BANKD/P4")
	w.e.Hold("BANKA/P1")
	check(w, "nothing follows a held order")
	w.e.Resume("BANKA/P1")
	w.e.Withdraw("BANKC/P3")
	check(w, "withdrawn", "BANKA/P1", "BANKB/P2")
	// Orders that follow each other in a circle settle together.
	c := newWorld(t, nil)
	c.pay(1, "BANKA", "BANKB", 1, after("BANKB/P2"))
	check(c, "unknown predecessor")
	c.pay(2, "BANKB", "BANKA", 1, after("BANKA/P1"))
	check(c, "circle", "BANKA/P1", "BANKB/P2")
	c.settles(" BANKA/P1 BANKB/P2")
	c.pay(3, "BANKB", "BANKA", 0+1, after("BANKA/P1"), after("BANKB/P2"))
	check(c, "after settled orders", "BANKB/P3")
	// A With link to an order that has settled is not to an order of the engine.
	c.pay(4, "BANKA", "BANKB", 1, with("BANKA/P1"))
	check(c, "with a settled order", "BANKB/P3")
}

// P40.4: a group follows at most 256 others.
func TestManyPredecessors(t *testing.T) {
	w := newWorld(t, nil)
	for n := 1; n <= 257; n++ {
		w.pay(n, "BANKA", "BANKB", 1)
	}
	for k := range 17 {
		var links []link
		if k > 0 {
			links = append(links, with("BANKC/P1000"))
		}
		for n := k*15 + 1; n <= min(k*15+15, 257); n++ {
			links = append(links, after("BANKA/P"+strconv.Itoa(n)))
		}
		w.pay(1000+k, "BANKC", "BANKB", 1, links...)
	}
	p, _ := w.e.Problem()
	last := p.Items[len(p.Items)-1]
	if len(p.Items) != 258 || len(last.After) != 255 {
		t.Error(len(p.Items), len(last.After))
	}
	w.pay(1017, "BANKC", "BANKB", 1, with("BANKC/P1000"), after("BANKA/P256"))
	if p, _ := w.e.Problem(); len(p.Items) != 258 || len(p.Items[257].After) != 256 {
		t.Error("256", len(p.Items))
	}
	w.pay(1018, "BANKC", "BANKB", 1, with("BANKC/P1000"), after("BANKA/P257"))
	if p, _ := w.e.Problem(); len(p.Items) != 257 {
		t.Error("more than 256", len(p.Items))
	}
}

// P40.5: what a step settles, and its events.
func TestEvents(t *testing.T) {
	w := newWorld(t, nil)
	w.cash("BANKB", 50)
	w.units("BANKA", isin, 10)
	w.trade(1, "BANKA", "BANKB", 10, 50, 0)
	w.pay(2, "BANKA", "BANKC", 50, with("BANKA/T1"))
	sequence := w.a.Sequence()
	l := w.run()
	want := []event{
		{Id: "BANKA/T1", Sequence: sequence + 1, Postings: []api.Posting{{Account: free("BANKA", isin), Delta: -10}, {Account: free("BANKB", isin), Delta: 10}, {Account: free("BANKB", api.Cash), Delta: -50}, {Account: free("BANKA", api.Cash), Delta: 50}}},
		{Id: "BANKA/P2", Sequence: sequence + 1, Postings: []api.Posting{{Account: free("BANKA", api.Cash), Delta: -50}, {Account: free("BANKC", api.Cash), Delta: 50}}},
	}
	same := func(a, b event) bool {
		return a.Kind == b.Kind && a.Id == b.Id && a.Sequence == b.Sequence && a.Quantity == b.Quantity && slices.Equal(a.Postings, b.Postings) && slices.Equal(a.Positions, b.Positions)
	}
	if !slices.EqualFunc(l, want, same) {
		t.Error(l)
	}
	if w.l.Net("BANKB", "BANKA") != 50 || w.l.Net("BANKA", "BANKC") != 50 {
		t.Error("payments are not recorded")
	}
	// The cash account of BANKA is left out, as its deltas add up to 0, and the others are posted in order.
	var order []api.Account
	for k := range w.a.All() {
		order = append(order, k)
	}
	if !slices.Equal(order[4:], []api.Account{free("BANKB", isin), free("BANKC", api.Cash)}) {
		t.Error("order of the postings", order)
	}
	reserved := newWorld(t, nil)
	reserved.cash("BANKA", 9)
	reserved.a.Reserve("BANKA", 9)
	i := pay("U", "BANKA", "BANKB", 9)
	i.Priority, i.Reserve = 2, true
	reserved.e.SubmitPayment(i, 1, nil)
	reserved.pay(2, "BANKA", "BANKB", 1)
	reserved.settles(" BANKA/U")
}

// P40.5: errors of the limits and the accounts.
func TestRunErrors(t *testing.T) {
	w := newWorld(t, nil)
	w.cash("BANKA", api.MaxAmount)
	w.a.Redeem("CB", api.Cash, "BANKA", 1)
	w.pay(1, "BANKA", "BANKB", 5)
	w.settles(" BANKA/P1")
	// The table of limits refuses more members than it may mention.
	for n := range limit.MaxMembers {
		m := "M" + strconv.Itoa(1000+n)
		w.l.SetMultilateral(m, 5)
		_ = m
	}
	w.l.SetMultilateral("BANKA", -1)
	w.pay(2, "BANKC", "BANKD", 5)
	w.cash("BANKC", 1)
	w.a.Transfer(api.Cash, "BANKA", "BANKC", 5)
	before := w.a.Clone()
	l, code := w.e.Run()
	if len(l) != 0 || code != api.ErrLimit || !w.a.Equal(before) || w.e.State("BANKC/P2") != settlement.Waiting {
		t.Error("Run", l, code)
	}
	// The accounts refuse a balance that is too large; what settled before stays settled.
	b := newWorld(t, nil)
	b.units("BANKB", isin, 5)
	b.cash("BANKA", api.MaxAmount)
	b.a.Transfer(api.Cash, "BANKA", "BANKC", 10)
	b.trade(1, "BANKB", "BANKA", 5, 1, 0)
	b.e.Run()
	b.a.SetLine("BANKC", 20)
	b.a.Transfer(api.Cash, "BANKC", "BANKA", 11)
	b.pay(2, "BANKC", "BANKA", 1)
	before = b.a.Clone()
	l, code = b.e.Run()
	if len(l) != 0 || code != api.ErrOverflow || !b.a.Equal(before) || b.l.Net("BANKC", "BANKA") != 0 {
		t.Error("Run", l, code, b.a.Balance(free("BANKA", api.Cash)))
	}
}

// fixed is a lender that gives the line that is asked for, up to a bound, and notes what it is asked.
type fixed struct {
	a     *account.Accounts
	bound int64
	asked []string
}

func (f *fixed) Raise(member string, amount int64, blocked []string) ([]collateral.Position, api.Errno) {
	s := member + " " + strconv.FormatInt(amount, 10)
	for _, b := range blocked {
		s += " " + b
	}
	f.asked = append(f.asked, s)
	if amount > f.bound {
		return nil, api.ErrCover
	}
	return []collateral.Position{{Asset: other, Quantity: amount}}, f.a.SetLine(member, f.a.Line(member)+amount)
}

func lending(t *testing.T, bound int64) (*world, *fixed) {
	f := &fixed{bound: bound}
	w := newWorld(t, f)
	f.a = w.a
	return w, f
}

// P40.5: the second step.
func TestLender(t *testing.T) {
	w, f := lending(t, 10)
	w.cash("BANKA", 3)
	w.units("BANKA", isin, 5)
	w.pay(1, "BANKA", "BANKB", 20)
	w.pay(2, "BANKA", "BANKB", 5)
	w.pay(3, "BANKC", "BANKB", 4)
	w.trade(4, "BANKA", "BANKB", 4, 0, 0)
	w.e.SubmitTrade(matching.Trade{Kind: message.Free, Deliverer: "BANKA", Receiver: "BANKB", Asset: other, Quantity: 1, Refs: [2]string{"O", "O"}}, 5, nil, false)
	l := w.run()
	if text(l) != " BANKA/T4; pledged BANKC; BANKC/P3" || !slices.Equal(f.asked, []string{"BANKA 17 " + other, "BANKA 22 " + other, "BANKC 4", "BANKA 17 " + other, "BANKA 22 " + other}) {
		t.Error(text(l), f.asked)
	}
	if p := l[1]; p.Kind != settlement.Pledged || p.Sequence != w.a.Sequence()-1 || !slices.Equal(p.Positions, []collateral.Position{{Asset: other, Quantity: 4}}) || p.Quantity != 0 || len(p.Postings) != 0 {
		t.Error("Pledged", p)
	}
	// More than one shortage, or another one than that of free cash, is nothing for the lender.
	x, g := lending(t, 1000)
	x.trade(1, "BANKA", "BANKB", 5, 10, 0)
	x.l.SetBilateral("BANKC", "BANKD", 5)
	x.pay(2, "BANKC", "BANKD", 6)
	i := pay("U", "BANKA", "BANKB", 9)
	i.Priority, i.Reserve = 2, true
	x.e.SubmitPayment(i, 3, nil)
	x.settles("")
	if len(g.asked) != 0 {
		t.Error("asked", g.asked)
	}
}

// useless is a lender that says that it has raised a line, and does not.
type useless struct{}

func (useless) Raise(string, int64, []string) ([]collateral.Position, api.Errno) { return nil, api.OK }

// P1: a run ends even if credit has no effect.
func TestUselessLender(t *testing.T) {
	w := newWorld(t, useless{})
	w.pay(1, "BANKA", "BANKB", 20)
	w.pay(2, "BANKB", "BANKC", 30)
	if l, code := w.e.Run(); code != api.OK || len(l) > 5000 {
		t.Error(len(l), code)
	}
}

// small is a lender that raises a line by 1, and not before it has been asked a number of times.
type small struct {
	a    *account.Accounts
	wait int
}

func (s *small) Raise(member string, amount int64, blocked []string) ([]collateral.Position, api.Errno) {
	if s.wait--; s.wait >= 0 {
		return nil, api.OK
	}
	return nil, s.a.SetLine(member, s.a.Line(member)+1)
}

// P40.5: a lender is asked again as long as it grants credit, however little.
func TestSmallLender(t *testing.T) {
	lender := &small{wait: 5}
	w := newWorld(t, lender)
	lender.a = w.a
	w.cash("BANKA", 3)
	w.pay(1, "BANKA", "BANKB", 20)
	l, code := w.e.Run()
	if code != api.OK || len(l) != 5+17+1 || l[22].Kind != settlement.Settled || w.a.Line("BANKA") != 17 {
		t.Error(len(l), code, w.a.Line("BANKA"))
	}
}

// P40.5: the third step.
func TestParts(t *testing.T) {
	w := newWorld(t, nil)
	w.units("BANKA", isin, 47)
	w.cash("BANKB", 350)
	w.trade(1, "BANKA", "BANKB", 100, 999, 10)
	sequence := w.a.Sequence()
	l := w.run()
	want := []api.Posting{{Account: free("BANKA", isin), Delta: -30}, {Account: free("BANKB", isin), Delta: 30}, {Account: free("BANKB", api.Cash), Delta: -299}, {Account: free("BANKA", api.Cash), Delta: 299}}
	if text(l) != " part BANKA/T1 30" || l[0].Sequence != sequence+1 || !slices.Equal(l[0].Postings, want) {
		t.Error(l)
	}
	x, _ := w.e.Trade("BANKA/T1")
	if x.Quantity != 70 || x.Amount != 700 || !slices.Equal(w.e.Orders(), []string{"BANKA/T1"}) || w.e.State("BANKA/T1") != settlement.Waiting || w.l.Net("BANKB", "BANKA") != 299 {
		t.Error("rest", x)
	}
	w.cash("BANKB", 1000)
	w.settles(" part BANKA/T1 10")
	w.units("BANKA", isin, 100)
	w.settles(" BANKA/T1")
}

// P40.5: what keeps a trade from settling in part.
func TestNoParts(t *testing.T) {
	for name, x := range map[string]struct {
		change func(w *world)
		want   string
	}{
		"nothing":     {func(w *world) {}, " part BANKA/T5 30"},
		"not allowed": {func(w *world) { w.e.Withdraw("BANKA/T5"); w.trade(5, "BANKA", "BANKB", 100, 999, 0) }, ""},
		"own link": {func(w *world) {
			w.e.Withdraw("BANKA/T5")
			w.trade(5, "BANKA", "BANKB", 100, 999, 10, after("BANKZ/P1"))
		}, ""},
		"other's link":  {func(w *world) { w.pay(9, "BANKC", "BANKD", 1, after("BANKA/T5")) }, ""},
		"held link":     {func(w *world) { w.pay(9, "BANKC", "BANKD", 1, after("BANKA/T5")); w.e.Hold("BANKC/P9") }, ""},
		"queue":         {func(w *world) { w.trade(1, "BANKA", "BANKC", 50, 0, 0) }, ""},
		"queue of cash": {func(w *world) { w.pay(1, "BANKB", "BANKC", 5000) }, ""},
		"later":         {func(w *world) { w.trade(9, "BANKA", "BANKC", 50, 0, 0) }, " part BANKA/T5 30"},
		"bilateral":     {func(w *world) { w.l.SetBilateral("BANKB", "BANKA", 250) }, " part BANKA/T5 20"},
		"multilateral":  {func(w *world) { w.l.SetMultilateral("BANKB", 100) }, " part BANKA/T5 10"},
		"other limit":   {func(w *world) { w.l.SetBilateral("BANKA", "BANKB", 0); w.l.SetMultilateral("BANKA", 0) }, " part BANKA/T5 30"},
		"no room":       {func(w *world) { w.l.SetMultilateral("BANKB", 0) }, ""},
		"negative room": {func(w *world) {
			w.l.Record([]limit.Flow{{From: "BANKB", To: "BANKC", Amount: 9}})
			w.l.SetMultilateral("BANKB", 0)
		}, ""},
		"held": {func(w *world) { w.e.Hold("BANKA/T5") }, ""},
	} {
		w := newWorld(t, nil)
		w.units("BANKA", isin, 47)
		w.cash("BANKB", 350)
		w.trade(5, "BANKA", "BANKB", 100, 999, 10)
		x.change(w)
		l, code := w.e.Run()
		if text(l) != x.want || code != api.OK {
			t.Error(name, text(l), code)
		}
	}
	w := newWorld(t, nil)
	w.units("BANKA", isin, 47)
	w.trade(1, "BANKA", "BANKB", 100, 0, 10)
	w.settles(" part BANKA/T1 40")
}

// P40.6
func TestCloneEqual(t *testing.T) {
	build := func() *world {
		w := newWorld(t, nil)
		w.cash("BANKA", 10)
		w.pay(1, "BANKA", "BANKB", 3)
		w.run()
		w.pay(2, "BANKA", "BANKB", 30, with("x"))
		w.trade(3, "BANKA", "BANKB", 100, 5, 10)
		return w
	}
	w := build()
	for name, change := range map[string]func(e *settlement.Engine){
		"submit": func(e *settlement.Engine) { e.SubmitPayment(pay("N", "BANKA", "BANKB", 1), 9, nil) }, "withdraw": func(e *settlement.Engine) { e.Withdraw("BANKA/P2") }, "hold": func(e *settlement.Engine) { e.Hold("BANKA/P2") }, "promote": func(e *settlement.Engine) { e.Promote("BANKA/P2", 1) },
		"adjust": func(e *settlement.Engine) { e.Adjust("BANKA/T3", isin, 100, 6) }, "links": func(e *settlement.Engine) {
			e.Withdraw("BANKA/P2")
			e.SubmitPayment(pay("P2", "BANKA", "BANKB", 30), 2, []link{after("x")})
		}, "seq": func(e *settlement.Engine) {
			e.Withdraw("BANKA/P2")
			e.SubmitPayment(pay("P2", "BANKA", "BANKB", 30), 8, []link{with("x")})
		}, "done": func(e *settlement.Engine) {
			e.SubmitPayment(pay("N", "BANKA", "BANKB", 1), 9, nil)
			e.Run()
		},
	} {
		c := w.e.Clone(w.a.Clone(), w.l.Clone(), nil)
		if !c.Equal(w.e) || !w.e.Equal(build().e) {
			t.Fatal("clone is not equal")
		}
		change(c)
		if c.Equal(w.e) || w.e.Equal(c) || !w.e.Equal(build().e) || w.a.Balance(free("BANKA", api.Cash)) != 7 {
			t.Error(name)
		}
	}
	var none *settlement.Engine
	l, code := none.Run()
	p, ids := none.Problem()
	_, ok1 := none.Payment("x")
	_, ok2 := none.Trade("x")
	if len(l) != 0 || code != api.ErrArgument || !resource.Equal(p, resource.Problem{}) || len(ids) != 0 || none.AtRest() || none.State("x") != 0 || ok1 || ok2 || len(none.Orders()) != 0 || none.Clone(w.a, w.l, nil) != nil || w.e.Clone(nil, w.l, nil) != nil || w.e.Clone(w.a, nil, nil) != nil || !none.Equal(nil) || none.Equal(w.e) || w.e.Equal(nil) {
		t.Error("nil engine")
	}
	for _, code := range []api.Errno{none.SubmitPayment(message.Instruction{}, 0, nil), none.SubmitTrade(matching.Trade{}, 0, nil, false), none.Withdraw(""), none.Hold(""), none.Resume(""), none.Promote("", 9), none.Adjust("", "", 0, 0)} {
		w.want("nil", code, api.ErrArgument)
	}
}

// flat values every unit at 2.
type flat struct{}

func (flat) Value(_, _ string, q int64) (int64, api.Errno) { return 2 * q, api.OK }

// P40.7 T6 T7 T10: random orders, with links, parts and credit.
func TestInvariants(t *testing.T) {
	for seed := range uint64(60) {
		lend := seed%2 == 0
		w := newWorld(t, nil)
		var desk *credit.Desk
		if lend {
			desk, _ = credit.New(w.a, flat{})
			w.e, _ = settlement.New(w.a, w.l, desk)
		}
		r := &random{seed}
		orders := map[string][]link{}
		for _, m := range members {
			w.cash(m, int64(1+r.next(40)))
			w.units(m, isin, int64(1+r.next(40)))
			w.units(m, other, int64(1+r.next(9)))
			if lend {
				desk.SetAuto(m, r.next(2) == 0)
			}
		}
		w.l.SetBilateral(members[0], members[1], int64(r.next(40)))
		w.l.SetMultilateral(members[2], int64(r.next(40)))
		bundles := map[string]int{}
		for seq := 1; seq <= 24; seq++ {
			w.submitRandom(r, seq, orders)
			if seq%6 != 0 {
				continue
			}
			before := balances(w.a)
			sequence := w.a.Sequence()
			l, code := w.e.Run()
			if code != api.OK {
				t.Fatal("Run", seed, code)
			}
			for n, x := range l {
				if n > 0 && x.Kind == settlement.Settled && x.Kind == l[n-1].Kind && x.Sequence != l[n-1].Sequence {
					t.Error("the first step settles twice in a row", seed)
				}
				if x.Kind == settlement.Settled {
					bundles[x.Id] = x.Sequence*100 + seq
				}
			}
			w.checkSum(before, sequence, l)
			p, _ := w.e.Problem()
			if set, _ := offset.Largest(p); len(set) > 0 {
				t.Error("something can still settle", seed)
			}
			if len(p.Items) <= feasible.MaxSmall {
				if u, _ := feasible.Union(p); len(u) > 0 {
					t.Error("a set is still feasible", seed)
				}
			}
		}
		checkLinks(t, orders, bundles, w.e)
	}
}

var members = []string{"BANKA", "BANKB", "BANKC", "BANKD"}

type random struct{ seed uint64 }

func (r *random) next(n int) int {
	r.seed = r.seed*6364136223846793005 + 1442695040888963407
	return int(r.seed>>33) % n
}

// submitRandom submits an order with links to others.
func (w *world) submitRandom(r *random, seq int, orders map[string][]link) {
	w.t.Helper()
	from := r.next(4)
	to := (from + 1 + r.next(3)) % 4
	var links []link
	known := slices.Sorted(maps.Keys(orders))
	if len(known) > 0 && r.next(4) == 0 {
		links = append(links, link{Type: r.next(2), Ref: known[r.next(len(known))]})
	}
	if r.next(2) == 0 {
		w.pay(seq, members[from], members[to], int64(1+r.next(50)), links...)
		orders[members[from]+"/P"+strconv.Itoa(seq)] = links
	} else {
		w.trade(seq, members[from], members[to], int64(10+r.next(40)), int64(r.next(60)), int64(r.next(2)*(1+r.next(9))), links...)
		orders[members[from]+"/T"+strconv.Itoa(seq)] = links
	}
}

// asked returns what a lender is asked in a round of the second step that has no success, by the words of the chapter.
func (w *world) asked() []string {
	p, _ := w.e.Problem()
	var asked []string
	for _, i := range p.Items {
		c, _ := feasible.Closure(p, []int{i.Id})
		l, code := feasible.Violations(p, c)
		if code != api.OK {
			w.t.Fatal("Violations", code)
		}
		if len(l) != 1 || l[0].Resource.Kind != resource.Balance || l[0].Resource.Account != free(l[0].Resource.Account.Owner, api.Cash) {
			continue
		}
		owner := l[0].Resource.Account.Owner
		assets := map[string]bool{}
		for _, x := range p.Items {
			deltas, _ := x.Deltas()
			for _, d := range deltas {
				if a := d.Resource.Account; d.Amount < 0 && a == free(owner, a.Asset) && a.Asset != api.Cash {
					assets[a.Asset] = true
				}
			}
		}
		s := owner + " " + strconv.FormatInt(l[0].Shortfall, 10)
		for _, a := range slices.Sorted(maps.Keys(assets)) {
			s += " " + a
		}
		asked = append(asked, s)
	}
	return asked
}

// P40.7: whom a lender is asked for, for random orders.
func TestAsked(t *testing.T) {
	total := 0
	for seed := range uint64(16) {
		w, f := lending(t, -1)
		r := &random{seed}
		orders := map[string][]link{}
		for _, m := range members {
			w.cash(m, int64(1+r.next(20)))
			w.units(m, isin, int64(1+r.next(40)))
		}
		w.l.SetBilateral(members[0], members[1], int64(r.next(40)))
		w.l.SetMultilateral(members[2], int64(r.next(40)))
		for seq := 1; seq <= 60; seq++ {
			w.submitRandom(r, seq, orders)
			if seq%9 == 0 {
				w.e.Promote(slices.Sorted(maps.Keys(orders))[r.next(len(orders))], r.next(3))
			}
			if seq%20 != 0 {
				continue
			}
			f.asked = nil
			w.e.Run()
			want := w.asked()
			total += len(want)
			if got := f.asked[max(0, len(f.asked)-len(want)):]; !slices.Equal(got, want) {
				t.Error("asked", seed, got, "want", want)
			}
		}
	}
	if total < 40 {
		t.Error("asked too seldom", total)
	}
}

func balances(a *account.Accounts) map[api.Account]int64 { return maps.Collect(a.All()) }

// checkSum checks that the events say what was posted.
func (w *world) checkSum(before map[api.Account]int64, sequence int, l []event) {
	w.t.Helper()
	last := sequence
	for _, x := range l {
		if x.Sequence < last {
			w.t.Error("sequence numbers decrease")
		}
		last = x.Sequence
		for _, p := range x.Postings {
			before[p.Account] += p.Delta
		}
		for _, p := range x.Positions {
			before[free(x.Id, p.Asset)] -= p.Quantity
			before[api.Account{Owner: x.Id, Kind: api.Pledged, Asset: p.Asset}] += p.Quantity
		}
	}
	for k, x := range before {
		if w.a.Balance(k) != x {
			w.t.Error("balance of", k, w.a.Balance(k), x)
		}
		if k.Kind != api.Issued && x < w.a.Floor(k) {
			w.t.Error("below the floor", k, x)
		}
	}
}

// checkLinks checks that linked orders settled together, and none before one that it must follow.
func checkLinks(t *testing.T, orders map[string][]link, bundles map[string]int, e *settlement.Engine) {
	t.Helper()
	for id, links := range orders {
		for _, l := range links {
			if bundles[id] == 0 {
				continue
			}
			if l.Type == message.With && bundles[l.Ref] != bundles[id] || bundles[l.Ref] == 0 || bundles[l.Ref] > bundles[id] {
				t.Error(id, "settled in", bundles[id], "and", l, "in", bundles[l.Ref])
			}
		}
		if (bundles[id] > 0) != (e.State(id) == settlement.Done) {
			t.Error("state of", id, e.State(id))
		}
	}
}

// P40.7: the order of submission does not matter.
func TestOrderOfSubmission(t *testing.T) {
	for seed := range uint64(30) {
		build := func(reverse bool) (*world, []event) {
			w := newWorld(t, nil)
			r := &random{seed}
			for _, m := range members {
				w.cash(m, int64(r.next(40)+1))
				w.units(m, isin, int64(r.next(40)+1))
			}
			seqs := []int{1, 2, 3, 4, 5, 6, 7, 8, 9, 10, 11, 12}
			if reverse {
				slices.Reverse(seqs)
			}
			for _, seq := range seqs {
				w.submitRandom(&random{seed*100 + uint64(seq)}, seq, map[string][]link{})
			}
			l, _ := w.e.Run()
			return w, l
		}
		a, l := build(false)
		b, m := build(true)
		if !a.e.Equal(b.e) || !a.a.Equal(b.a) || text(l) != text(m) {
			t.Error("seed", seed, text(l), text(m))
		}
	}
}

// Examples 1 and 2
func TestExamples(t *testing.T) {
	w := newWorld(t, nil)
	w.pay(1, "BANKA", "BANKB", 5)
	w.pay(2, "BANKB", "BANKC", 5)
	w.pay(3, "BANKC", "BANKA", 5)
	w.settles(" BANKA/P1 BANKB/P2 BANKC/P3")
	if w.a.Sequence() != 0 {
		t.Error("something was posted")
	}
	x := newWorld(t, nil)
	x.cash("BANKA", 3)
	x.pay(1, "BANKA", "BANKB", 5)
	x.pay(2, "BANKA", "BANKB", 2)
	x.settles("")
	x.e.Promote("BANKA/P2", 1)
	x.settles(" BANKA/P2")
}

// P40.4: what is held or must wait does not keep later orders out of the problem, and orders wait as long as one that they follow, directly or indirectly.
func TestWaiting(t *testing.T) {
	w := newWorld(t, nil)
	w.cash("BANKA", 50)
	w.pay(1, "BANKA", "BANKB", 5)
	w.want("hold", w.e.Hold("BANKA/P1"), api.OK)
	for seq := 2; seq <= 9; seq++ {
		w.pay(seq, "BANKA", "BANKB", 5, after("BANKA/P"+strconv.Itoa(seq-1)))
	}
	w.pay(10, "BANKA", "BANKB", 6)
	if p, ids := w.e.Problem(); len(p.Items) != 1 || ids[0][0] != "BANKA/P10" {
		t.Error("items", ids)
	}
	w.settles(" BANKA/P10")
	w.pay(11, "BANKA", "BANKB", 1, after("BANKA/P10"), after("BANKA/P99"))
	w.settles("")
	w.pay(99, "BANKA", "BANKB", 1)
	w.settles(" BANKA/P11 BANKA/P99")
	w.want("promote", w.e.Promote("BANKA/P2", 2), api.OK)
	w.want("promote", w.e.Promote("BANKA/P2", 0), api.OK)
	w.want("resume", w.e.Resume("BANKA/P1"), api.OK)
	if l := w.run(); len(l) != 8 {
		t.Error("events", text(l))
	}
}

// P40.7: parts settle of the first trade of which one can, however small, and not of those with links.
func TestFirstPart(t *testing.T) {
	w := newWorld(t, nil)
	w.cash("BANKB", 100)
	w.cash("BANKD", 100)
	w.units("BANKA", isin, 1)
	w.units("BANKC", isin, 1)
	w.pay(1, "BANKA", "BANKC", 30)
	w.settles("")
	w.trade(2, "BANKA", "BANKB", 10, 10, 1, after("BANKA/P77"))
	w.pay(77, "BANKA", "BANKC", 1)
	w.cash("BANKA", 0+31)
	w.trade(3, "BANKC", "BANKD", 10, 10, 1)
	w.settles(" BANKA/P1 BANKA/P77; part BANKC/T3 1")
	w.trade(4, "BANKA", "BANKD", 20, 20, 1)
	w.settles("")
}

// P40.7: a lender is asked for the whole set that an item needs, with the assets that are needed otherwise.
func TestAskedForClosure(t *testing.T) {
	w, f := lending(t, -1)
	w.cash("BANKB", 7)
	w.want("payment", w.e.SubmitPayment(pay("P1", "BANKA", "BANKC", 5), 1, []link{after("BANKB/P2")}), api.OK)
	w.want("promote", w.e.Promote("BANKA/P1", 2), api.OK)
	w.pay(3, "BANKB", "BANKC", 20)
	w.want("payment", w.e.SubmitPayment(pay("P2", "BANKB", "BANKC", 7), 4, nil), api.OK)
	w.settles("")
	if want := []string{"BANKB 13", "BANKB 20"}; !slices.Equal(f.asked, want) {
		t.Error("asked", f.asked, "want", want)
	}
	for n, asset := range []string{other, isin, "AU0000XVGZA3", "DE0007164600"} {
		x := trade("T"+asset[:2], "BANKB", "BANKD", 5, 0, 0)
		x.Asset = asset
		w.want("trade", w.e.SubmitTrade(x, 10+n, nil, false), api.OK)
	}
	f.asked = nil
	w.settles("")
	if want := "BANKB 13 AU0000XVGZA3 DE0007164600 " + isin + " " + other; len(f.asked) != 2 || f.asked[0] != want {
		t.Error("asked", f.asked, "want", want)
	}
}
