package audit_test

import (
	"slices"
	"strconv"
	"testing"

	"giro/account"
	"giro/api"
	"giro/audit"
	"giro/calendar"
	"giro/corpaction"
	"giro/engine"
	"giro/feasible"
	"giro/fraction"
	"giro/history"
	"giro/merkle"
	"giro/message"
	"giro/refdata"
	"giro/schedule"
	"giro/sha256"
)

type (
	command   = engine.Command
	event     = engine.Event
	entry     = audit.Entry
	violation = audit.Violation
)

const isin = "US0378331005"

// The logs of these tests are partly made by hand, with events that no engine would report.

func free(owner, asset string) api.Account {
	return api.Account{Owner: owner, Kind: api.Free, Asset: asset}
}

func of(owner string, kind int, asset string) api.Account {
	return api.Account{Owner: owner, Kind: kind, Asset: asset}
}

// move returns the postings of a movement between two accounts.
func move(from, to api.Account, x int64) []api.Posting {
	return []api.Posting{{Account: from, Delta: -x}, {Account: to, Delta: x}}
}

// cash returns the postings of a payment.
func cash(from, to string, x int64) []api.Posting {
	return move(free(from, api.Cash), free(to, api.Cash), x)
}

// units returns the postings of a delivery.
func units(from, to string, q int64) []api.Posting { return move(free(from, isin), free(to, isin), q) }

func submit(i message.Instruction) command {
	return command{Kind: engine.Submit, Request: message.Request{Op: message.Submit, Sender: i.Sender, Ref: i.Ref, Instruction: i}}
}

func pay(ref, from, to string, x int64) message.Instruction {
	return message.Instruction{Ref: ref, Kind: message.Payment, Sender: from, Counterparty: to, Asset: api.Cash, Amount: x}
}

func trade(ref, from, to string, q, x int64) message.Instruction {
	i := message.Instruction{Ref: ref, Kind: message.DvP, Sender: from, Counterparty: to, Asset: isin, Quantity: q, Amount: x}
	if x == 0 {
		i.Kind = message.Free
	}
	return i
}

func receipt(ref, from, to string, q, x int64) message.Instruction {
	i := trade(ref, from, to, q, x)
	i.Side = message.Receive
	return i
}

func issue(from, to, asset string, x int64) command {
	return command{Kind: engine.Issue, From: from, To: to, Asset: asset, Amount: x}
}

func limit(from, to string, x int64) command {
	c := command{Kind: engine.SetBilateral, From: from, To: to, Amount: x}
	if to == "" {
		c.Kind = engine.SetMultilateral
	}
	return c
}

func advance(day, minute int) command {
	return command{Kind: engine.Advance, Clock: api.Clock{Day: day, Minute: minute}}
}

// log makes a log, whose events it numbers and provides with the time where they have none.
func log(l ...entry) []entry {
	seq, clock := 0, api.Clock{}
	for _, x := range l {
		for n := range x.Events {
			seq++
			if x.Events[n].Seq == 0 {
				x.Events[n].Seq = seq
			}
			if x.Events[n].Clock == (api.Clock{}) {
				x.Events[n].Clock = clock
			}
		}
		if x.Command.Kind == engine.Advance {
			clock = x.Command.Clock
		}
	}
	return l
}

func with(c command, l ...event) entry { return entry{Command: c, Events: l} }

func posted(l []api.Posting) event { return event{Kind: engine.Posted, Postings: l} }

func settled(ref string, l ...api.Posting) event {
	return event{Kind: engine.Settled, Ref: ref, Postings: l}
}

func part(ref string, l ...api.Posting) event {
	return event{Kind: engine.Part, Ref: ref, Postings: l}
}

// rich returns entries that give A and B cash and units.
func rich() []entry {
	return []entry{
		with(issue("CB", "A", api.Cash, 100), posted(move(of("CB", api.Issued, api.Cash), free("A", api.Cash), 100))),
		with(issue("CB", "B", api.Cash, 100), posted(move(of("CB", api.Issued, api.Cash), free("B", api.Cash), 100))),
		with(issue("I", "A", isin, 50), posted(move(of("I", api.Issued, isin), free("A", isin), 50))),
	}
}

// after returns the log of rich and other entries.
func after(l ...entry) []entry { return log(append(rich(), l...)...) }

func wantCheck(t *testing.T, name string, l []entry, want violation) {
	t.Helper()
	got, e := audit.Check(l)
	if got != want || e != api.OK {
		t.Errorf("%s: %s %d %q (%d), want %s %d %q", name, audit.Name(got.Kind), got.Command, got.Ref, e, audit.Name(want.Kind), want.Command, want.Ref)
	}
}

// P55.1: the numbers and times of events.
func TestOrder(t *testing.T) {
	clock := func(day, minute int) api.Clock { return api.Clock{Day: day, Minute: minute} }
	at := func(c api.Clock, ref string) event { return event{Kind: engine.PhaseBegun, Clock: c, Ref: ref} }
	p := submit(pay("P", "A", "B", 1))
	accepted := event{Kind: engine.Accepted, Ref: "A/P"}
	numbered := func(n int) event { x := accepted; x.Seq = n; return x }
	wrong := func(n int, ref string) violation { return violation{audit.WrongOrder, n, ref} }
	for _, c := range []struct {
		name string
		log  []entry
		want violation
	}{
		{"no entry", nil, violation{}},
		{"no event", log(with(p)), violation{}},
		{"two events", log(with(p, accepted, accepted)), violation{}},
		{"first number", log(with(p, numbered(2))), wrong(0, "A/P")},
		{"number twice", log(with(p, accepted), with(p, numbered(1))), wrong(1, "A/P")},
		{"gap", log(with(p, accepted), with(p, accepted, numbered(4))), wrong(1, "A/P")},
		{"negative", log(with(p, numbered(-1))), wrong(0, "A/P")},
		{"times", log(with(advance(1, 5), at(clock(1, 1), "a"), at(clock(1, 1), "b"), at(clock(1, 5), "c")), with(p, accepted)), violation{}},
		{"no later", log(with(advance(1, 5), at(clock(1, 6), "a"))), wrong(0, "a")},
		{"back", log(with(advance(1, 5), at(clock(1, 4), "a"), at(clock(1, 3), "b"))), wrong(0, "b")},
		{"before now", log(with(advance(1, 5)), with(advance(1, 9), at(clock(1, 4), "a"))), wrong(1, "a")},
		{"now", log(with(advance(1, 5)), with(advance(1, 9), at(clock(1, 5), "a"))), violation{}},
		{"day before now", log(with(advance(1, 5)), with(advance(2, 9), at(clock(0, 1439), "a"))), wrong(1, "a")},
		{"event late", log(with(advance(1, 5)), with(p, at(clock(1, 6), "x"))), wrong(1, "x")},
		{"event early", log(with(advance(1, 5)), with(p, at(clock(1, 4), "x"))), wrong(1, "x")},
		{"number before time", log(with(p, event{Seq: 7, Clock: clock(1, 1), Ref: "x"})), wrong(0, "x")},
	} {
		wantCheck(t, c.name, c.log, c.want)
	}
}

// P55.1: the deltas of an event.
func TestBalanced(t *testing.T) {
	c := issue("CB", "A", api.Cash, 1)
	posting := func(owner, asset string, x int64) api.Posting {
		return api.Posting{Account: of(owner, api.Issued, asset), Delta: x}
	}
	const most = api.MaxAmount
	for _, x := range []struct {
		name string
		l    []api.Posting
		good bool
	}{
		{"none", nil, true},
		{"two", []api.Posting{posting("A", isin, -3), posting("B", isin, 3)}, true},
		{"three", []api.Posting{posting("A", isin, -3), posting("B", isin, 2), posting("C", isin, 1)}, true},
		{"one", []api.Posting{posting("A", isin, 3)}, false},
		{"zero", []api.Posting{posting("A", isin, 0)}, false},
		{"other assets", []api.Posting{posting("A", isin, -3), posting("B", api.Cash, 3)}, false},
		{"both assets", []api.Posting{posting("A", isin, -3), posting("B", api.Cash, -2), posting("B", api.Cash, 2), posting("B", isin, 3)}, true},
		{"largest", []api.Posting{posting("A", isin, -most), posting("B", isin, most)}, true},
		{"too large", []api.Posting{posting("A", isin, -most-1), posting("B", isin, most+1)}, false},
		{"too large alone", []api.Posting{posting("A", isin, -most), posting("C", isin, -1), posting("B", isin, most+1)}, false},
		{"too small", []api.Posting{posting("A", isin, -most-1), posting("B", isin, most), posting("C", isin, 1)}, false},
	} {
		want := violation{}
		if !x.good {
			want = violation{audit.Unbalanced, 0, "ref"}
		}
		wantCheck(t, x.name, log(with(c, event{Kind: engine.Posted, Ref: "ref", Postings: x.l})), want)
	}
	// Sums beyond 64 bits do not wrap around.
	var l []api.Posting
	for range 1 << 4 {
		for range 1 << 4 {
			l = append(l, posting("A", isin, -most))
		}
	}
	wantCheck(t, "many", log(with(c, event{Kind: engine.Posted, Ref: "ref", Postings: l})), violation{audit.Unbalanced, 0, "ref"})
	wantCheck(t, "number first", log(with(c, event{Kind: engine.Posted, Seq: 2, Ref: "ref", Postings: l})), violation{audit.WrongOrder, 0, "ref"})
}

// P55.1: events of orders and their instructions.
func TestMismatch(t *testing.T) {
	paid := settled("A/P", cash("A", "B", 10)...)
	mismatch := func(n int, ref string) violation { return violation{audit.Mismatch, n, ref} }
	p := submit(pay("P", "A", "B", 10))
	reserve := command{Kind: engine.Reserve, From: "A", Amount: 1}
	pledge := message.Instruction{Ref: "P", Sender: "A", Asset: isin, Quantity: 10}
	kind := func(k int) command { i := pledge; i.Kind = k; return submit(i) }
	other := submit(pay("P", "A", "B", 10))
	other.Request.Op = message.Hold
	for _, c := range []struct {
		name string
		log  []entry
		want violation
	}{
		{"settled", after(with(p, paid)), violation{}},
		{"later", after(with(p), with(reserve, paid)), violation{}},
		{"unknown", after(with(reserve, paid)), mismatch(3, "A/P")},
		{"unknown part", after(with(reserve, part("A/P", cash("A", "B", 10)...))), mismatch(3, "A/P")},
		{"too early", after(with(reserve, paid), with(p)), mismatch(3, "A/P")},
		{"other sender", after(with(submit(pay("P", "B", "A", 10)), paid)), mismatch(3, "A/P")},
		{"other request", after(with(other, paid)), mismatch(3, "A/P")},
		{"twice", after(with(p, paid, paid)), mismatch(3, "A/P")},
		{"twice later", after(with(p, paid), with(p, paid)), mismatch(4, "A/P")},
		{"part afterwards", after(with(p, paid), with(p, part("A/P", cash("A", "B", 10)...))), mismatch(4, "A/P")},
		{"parts", after(with(p, part("A/P", cash("A", "B", 10)...), part("A/P", cash("A", "B", 10)...), paid)), violation{}},
		{"last instruction", after(with(submit(pay("P", "A", "B", 11))), with(p, paid)), violation{}},
		{"older instruction", after(with(p), with(submit(pay("P", "A", "B", 11)), paid)), violation{audit.NotVersus, 4, "A/P"}},
		{"pledge", after(with(kind(message.Pledge), paid)), mismatch(3, "A/P")},
		{"release", after(with(kind(message.Release), part("A/P"))), mismatch(3, "A/P")},
		{"receipt", after(with(submit(receipt("P", "A", "B", 10, 5)), paid)), mismatch(3, "A/P")},
		{"free receipt", after(with(submit(receipt("P", "A", "B", 10, 0)), paid)), mismatch(3, "A/P")},
		{"no order", after(with(reserve, event{Kind: engine.Cancelled, Ref: "A/P"})), violation{}},
		{"unbalanced first", after(with(reserve, settled("A/P", cash("A", "B", 10)[0]))), violation{audit.Unbalanced, 3, "A/P"}},
	} {
		wantCheck(t, c.name, c.log, c.want)
	}
}

// P55.1 T3: the postings of settled orders.
func TestNotVersus(t *testing.T) {
	reserving := pay("O", "A", "B", 10)
	reserving.Reserve = true
	payment, exchange, gift := pay("O", "A", "B", 10), trade("O", "A", "B", 10, 5), trade("O", "A", "B", 10, 0)
	dvp := func(q, x int64) []api.Posting { return append(units("A", "B", q), cash("B", "A", x)...) }
	backwards := func(l []api.Posting) []api.Posting { slices.Reverse(l); return l }
	funded := with(command{Kind: engine.Reserve, From: "A", Amount: 10}, posted(move(free("A", api.Cash), of("A", api.Reserved, api.Cash), 10)))
	for _, c := range []struct {
		name string
		i    message.Instruction
		l    []api.Posting
		good bool
	}{
		{"payment", payment, cash("A", "B", 10), true},
		{"payment of less", payment, cash("A", "B", 9), false},
		{"payment of nothing", payment, nil, false},
		{"payment to C", payment, cash("A", "C", 10), false},
		{"payment of C", payment, cash("C", "B", 10), false},
		{"reversed payment", payment, cash("B", "A", 10), false},
		{"payment in another order", payment, backwards(cash("A", "B", 10)), false},
		{"payment of reserved cash", payment, move(of("A", api.Reserved, api.Cash), free("B", api.Cash), 10), false},
		{"payment with more", payment, append(cash("A", "B", 10), cash("A", "B", 1)...), false},
		{"payment of units", payment, units("A", "B", 10), false},
		{"payment to an account that is not free", payment, move(free("A", api.Cash), of("B", api.Reserved, api.Cash), 10), false},
		{"reserved", reserving, move(of("A", api.Reserved, api.Cash), free("B", api.Cash), 10), true},
		{"not reserved", reserving, cash("A", "B", 10), false},
		{"trade", exchange, dvp(10, 5), true},
		{"part", exchange, dvp(1, 2), true},
		{"least part", exchange, dvp(1, 1), true},
		{"units only", exchange, units("A", "B", 10), false},
		{"cash only", exchange, cash("B", "A", 5), false},
		{"trade in another order", exchange, append(cash("B", "A", 5), units("A", "B", 10)...), false},
		{"trade with more", exchange, append(dvp(10, 5), cash("B", "A", 1)...), false},
		{"cash of C", exchange, append(units("A", "B", 10), cash("C", "A", 5)...), false},
		{"cash to C", exchange, append(units("A", "B", 10), cash("B", "C", 5)...), false},
		{"units to C", exchange, append(units("A", "C", 10), cash("B", "A", 5)...), false},
		{"negative units", exchange, dvp(-10, 5), false},
		{"negative cash", exchange, dvp(10, -5), false},
		{"units for units", exchange, append(units("A", "B", 10), units("B", "A", 5)...), false},
		{"cash for cash", exchange, append(cash("A", "B", 10), cash("B", "A", 5)...), false},
		{"earmarked units", exchange, append(move(of("A", api.Earmarked, isin), free("B", isin), 10), cash("B", "A", 5)...), false},
		{"reserved cash", exchange, append(units("A", "B", 10), move(of("B", api.Reserved, api.Cash), free("A", api.Cash), 5)...), false},
		{"gift", gift, units("A", "B", 10), true},
		{"other asset", gift, move(free("A", "XS0000000009"), free("B", "XS0000000009"), 10), true},
		{"gift with cash", gift, dvp(10, 5), false},
		{"gift of cash", gift, cash("A", "B", 10), false},
		{"negative gift", gift, units("A", "B", -10), false},
		{"gift of nothing", gift, nil, false},
		{"gift to C", gift, units("A", "C", 10), false},
		{"gift to pledged", gift, move(free("A", isin), of("B", api.Pledged, isin), 10), false},
		{"different units", gift, append(units("A", "B", 10)[:1:1], append(cash("A", "B", 3), units("A", "B", 10)[1])...), false},
	} {
		for _, x := range []event{settled("A/O", c.l...), part("A/O", c.l...)} {
			want := violation{audit.NotVersus, 5, "A/O"}
			l := after(funded, with(issue("I", "A", "XS0000000009", 10), posted(move(of("I", api.Issued, "XS0000000009"), free("A", "XS0000000009"), 10))), with(submit(c.i), x))
			if c.good {
				want = violation{}
			}
			wantCheck(t, c.name, l, want)
		}
	}
}

// P55.1 T2: balances after groups of events.
func TestOverdrawn(t *testing.T) {
	p, q := submit(pay("P", "A", "B", 150)), submit(pay("Q", "B", "A", 120))
	big, back := settled("A/P", cash("A", "B", 150)...), settled("B/Q", cash("B", "A", 120)...)
	pledged := func(owner string, x int64) event {
		return posted(move(free(owner, isin), of(owner, api.Pledged, isin), x))
	}
	reserve := command{Kind: engine.Reserve, From: "A", Amount: 1}
	overdrawn := func(n int, ref string) violation { return violation{audit.Overdrawn, n, ref} }
	for _, c := range []struct {
		name string
		log  []entry
		want violation
	}{
		{"too much", after(with(p, big)), overdrawn(3, "A/P")},
		{"offset", after(with(p), with(q, big, back)), violation{}},
		{"offset the other way", after(with(p), with(q, back, big)), violation{}},
		{"divided", after(with(p), with(q, big, event{Kind: engine.Accepted, Ref: "B/Q"}, back)), overdrawn(4, "A/P")},
		{"two entries", after(with(p), with(q, big), with(q, back)), overdrawn(4, "A/P")},
		{"the last of the group", after(with(p), with(submit(pay("S", "B", "C", 1)), big, settled("B/S", cash("B", "C", 1)...))), overdrawn(4, "B/S")},
		{"a part is alone", after(with(p), with(q, part("A/P", cash("A", "B", 150)...), back)), overdrawn(4, "A/P")},
		{"on credit", after(with(reserve, pledged("A", 10)), with(p, big)), violation{}},
		{"on credit of another one", after(with(submit(trade("T", "A", "B", 10, 0)), settled("A/T", units("A", "B", 10)...)), with(reserve, pledged("B", 10)), with(p, big)), overdrawn(5, "A/P")},
		{"credit outlasts its collateral", after(with(reserve, pledged("A", 10)), with(reserve, pledged("A", -10)), with(p, big)), violation{}},
		{"credit by the same group", after(with(reserve, posted(append(move(free("A", isin), of("A", api.Pledged, isin), 10), cash("A", "B", 150)...)))), violation{}},
		{"credit too late", after(with(p, big, pledged("A", 10))), overdrawn(3, "A/P")},
		{"credit for cash only", after(with(reserve, pledged("A", 10)), with(submit(trade("T", "A", "B", 41, 0)), settled("A/T", units("A", "B", 41)...))), overdrawn(4, "A/T")},
		{"no credit for reserved cash", after(with(reserve, pledged("A", 10)), with(reserve, posted(move(of("A", api.Reserved, api.Cash), free("A", api.Cash), 1)))), overdrawn(4, "")},
		{"no balance pledged", after(with(reserve, posted(append(append(move(free("A", isin), of("A", api.Pledged, isin), 10), move(of("A", api.Pledged, isin), free("A", isin), 10)...), cash("A", "B", 150)...)))), overdrawn(3, "")},
		{"pledged below 0", after(with(reserve, pledged("A", -10))), overdrawn(3, "")},
		{"issued", after(with(issue("CB", "A", api.Cash, 5), posted(move(of("CB", api.Issued, api.Cash), free("A", api.Cash), 5)))), violation{}},
		{"exactly", after(with(submit(pay("P", "A", "B", 100)), settled("A/P", cash("A", "B", 100)...))), violation{}},
		{"one more", after(with(submit(pay("P", "A", "B", 101)), settled("A/P", cash("A", "B", 101)...))), overdrawn(3, "A/P")},
		{"less overdrawn", after(with(reserve, pledged("A", 10)), with(p, big), with(reserve, posted(cash("B", "A", 20)))), violation{}},
	} {
		wantCheck(t, c.name, c.log, c.want)
	}
	// A group that credits an overdrawn account is no violation even of an owner without credit.
	l := after(with(reserve, posted(cash("C", "A", -5)), posted(cash("A", "C", 3))))
	wantCheck(t, "credited", l, violation{})
	// Balances beyond 64 bits do not wrap around.
	var many []entry
	for range 16 {
		for range 16 {
			many = append(many, with(issue("CB", "A", api.Cash, 1), posted(move(of("CB", api.Issued, api.Cash), free("A", api.Cash), api.MaxAmount))))
		}
	}
	many = append(many, with(reserve, posted(cash("A", "B", 5))))
	wantCheck(t, "many", log(many...), violation{})
}

// P55.1 T2: net amounts after groups of events.
func TestOverlimit(t *testing.T) {
	p, q := submit(pay("P", "A", "B", 30)), submit(pay("Q", "B", "A", 20))
	there, back := settled("A/P", cash("A", "B", 30)...), settled("B/Q", cash("B", "A", 20)...)
	dvp := func(ref, from, to string, x int64) event {
		return settled(from+"/"+ref, append(units(from, to, 1), cash(to, from, x)...)...)
	}
	over := func(n int, ref string) violation { return violation{audit.Overlimit, n, ref} }
	reset := event{Kind: engine.PhaseBegun, Ref: schedule.PhaseName(schedule.Start)}
	for _, c := range []struct {
		name string
		log  []entry
		want violation
	}{
		{"exactly", after(with(limit("A", "B", 30)), with(p, there)), violation{}},
		{"more", after(with(limit("A", "B", 29)), with(p, there)), over(4, "A/P")},
		{"zero", after(with(limit("A", "B", 0)), with(p, there)), over(4, "A/P")},
		{"removed", after(with(limit("A", "B", 29)), with(limit("A", "B", -1)), with(p, there)), violation{}},
		{"replaced", after(with(limit("A", "B", 29)), with(limit("A", "B", 30)), with(p, there)), violation{}},
		{"the other way", after(with(limit("B", "A", 0)), with(p, there)), violation{}},
		{"of another one", after(with(limit("A", "C", 0)), with(limit("C", "B", 0)), with(p, there)), violation{}},
		{"set afterwards", after(with(p, there), with(limit("A", "B", 0)), with(q, back)), violation{}},
		{"increased", after(with(p, there), with(limit("A", "B", 0)), with(submit(pay("R", "A", "B", 1)), settled("A/R", cash("A", "B", 1)...))), over(5, "A/R")},
		{"offset", after(with(limit("A", "B", 10)), with(p), with(q, there, back)), violation{}},
		{"offset too little", after(with(limit("A", "B", 9)), with(p), with(q, there, back)), over(5, "B/Q")},
		{"one by one", after(with(limit("A", "B", 10)), with(p), with(q, there), with(q, back)), over(5, "A/P")},
		{"returned before", after(with(limit("A", "B", 10)), with(p), with(q, back), with(q, there)), violation{}},
		{"a part", after(with(limit("A", "B", 29)), with(p, part("A/P", cash("A", "B", 30)...))), over(4, "A/P")},
		{"parts add up", after(with(limit("A", "B", 59)), with(p, part("A/P", cash("A", "B", 30)...)), with(p, part("A/P", cash("A", "B", 30)...))), over(5, "A/P")},
		{"multilateral", after(with(limit("A", "", 29)), with(p, there)), over(4, "A/P")},
		{"multilateral exactly", after(with(limit("A", "", 30)), with(p, there)), violation{}},
		{"multilateral removed", after(with(limit("A", "", 29)), with(limit("A", "", -5)), with(p, there)), violation{}},
		{"to two", after(with(limit("A", "", 50)), with(p, there), with(submit(pay("R", "A", "C", 21)), settled("A/R", cash("A", "C", 21)...))), over(5, "A/R")},
		{"from another", after(with(limit("A", "", 10)), with(p), with(q, back, there)), violation{}},
		{"multilateral of the other one", after(with(limit("B", "", 0)), with(p, there)), violation{}},
		{"payer of a trade", after(with(limit("B", "A", 4)), with(submit(trade("T", "A", "B", 1, 5)), dvp("T", "A", "B", 5))), over(4, "A/T")},
		{"trade exactly", after(with(limit("B", "A", 5)), with(limit("A", "B", 0)), with(submit(trade("T", "A", "B", 1, 5)), dvp("T", "A", "B", 5))), violation{}},
		{"settled amount", after(with(limit("B", "A", 5)), with(submit(trade("T", "A", "B", 10, 50)), part("A/T", append(units("A", "B", 1), cash("B", "A", 5)...)...))), violation{}},
		{"trade multilateral", after(with(limit("B", "", 4)), with(submit(trade("T", "A", "B", 1, 5)), dvp("T", "A", "B", 5))), over(4, "A/T")},
		{"gift", after(with(limit("A", "B", 0)), with(limit("B", "A", 0)), with(submit(trade("T", "A", "B", 1, 0)), settled("A/T", units("A", "B", 1)...))), violation{}},
		{"other events", after(with(limit("A", "B", 0)), with(p, posted(cash("A", "B", 30)))), violation{}},
		{"reset", after(with(limit("A", "B", 30)), with(p, there), with(advance(0, 9), reset), with(submit(pay("R", "A", "B", 30)), settled("A/R", cash("A", "B", 30)...))), violation{}},
		{"not reset", after(with(limit("A", "B", 30)), with(p, there), with(advance(0, 9)), with(submit(pay("R", "A", "B", 30)), settled("A/R", cash("A", "B", 30)...))), over(6, "A/R")},
		{"other phase", after(with(limit("A", "B", 30)), with(p, there), with(advance(0, 9), event{Kind: engine.PhaseBegun, Ref: schedule.PhaseName(schedule.Realtime)}), with(submit(pay("R", "A", "B", 30)), settled("A/R", cash("A", "B", 30)...))), over(6, "A/R")},
		{"other kind", after(with(limit("A", "B", 30)), with(p, there), with(advance(0, 9), event{Kind: engine.Accepted, Ref: reset.Ref}), with(submit(pay("R", "A", "B", 30)), settled("A/R", cash("A", "B", 30)...))), over(6, "A/R")},
		{"overdrawn first", after(with(limit("A", "B", 0)), with(submit(pay("P", "A", "B", 150)), settled("A/P", cash("A", "B", 150)...))), violation{audit.Overdrawn, 4, "A/P"}},
	} {
		wantCheck(t, c.name, c.log, c.want)
	}
}

// The logs of engines.

func everyDay(t *testing.T) *calendar.Calendar {
	t.Helper()
	cal, e := calendar.New(nil, nil)
	if e != api.OK {
		t.Fatal(e)
	}
	return cal
}

// run returns an engine after commands, all of which it must accept.
func run(t *testing.T, l ...command) *engine.Engine {
	t.Helper()
	e, code := engine.New(everyDay(t), schedule.Default())
	if code != api.OK {
		t.Fatal(code)
	}
	for _, c := range l {
		if _, code := e.Step(c); code != api.OK {
			t.Fatal("command", c.Kind, code)
		}
	}
	return e
}

func member(code string) command {
	return command{Kind: engine.SetMember, Member: refdata.Member{Code: code, Active: true}}
}

// script returns the commands of Example 1 of layer 51.
func script() []command {
	return []command{
		advance(0, 420), member("BANKA"), member("BANKB"), issue(account.CentralBank, "BANKA", api.Cash, 100),
		submit(pay("P1", "BANKA", "BANKB", 60)),
	}
}

// clone returns a copy of a log that shares nothing with it.
func clone(l []entry) []entry {
	all := slices.Clone(l)
	for n := range all {
		all[n].Events = slices.Clone(l[n].Events)
		for k := range all[n].Events {
			all[n].Events[k].Postings = slices.Clone(all[n].Events[k].Postings)
		}
	}
	return all
}

func wantFull(t *testing.T, e *engine.Engine) {
	t.Helper()
	if v, code := audit.Full(e); v != (violation{}) || code != api.OK {
		t.Errorf("full: %s %d %q, error %d", audit.Name(v.Kind), v.Command, v.Ref, code)
	}
}

// P55.1: records.
func TestRecord(t *testing.T) {
	if l := audit.Record(nil); len(l) != 0 {
		t.Error("nil engine")
	}
	e := run(t)
	if l := audit.Record(e); len(l) != 0 {
		t.Error("new engine")
	}
	e = run(t, script()...)
	e.Step(command{Kind: -1})
	l := audit.Record(e)
	if len(l) != 5 {
		t.Fatal("entries", len(l))
	}
	for n, x := range l {
		c, _ := e.Command(n)
		a, _ := engine.EncodeCommand(c)
		b, _ := engine.EncodeCommand(x.Command)
		if !slices.Equal(a, b) || !slices.EqualFunc(x.Events, e.Events(n), equal) {
			t.Error("entry", n)
		}
	}
	l[4].Events[1].Postings[0].Delta = 7
	if audit.Record(e)[4].Events[1].Postings[0].Delta != -60 {
		t.Error("the record is shared")
	}
}

func equal(a, b event) bool {
	x, _ := engine.EncodeEvent(a)
	y, _ := engine.EncodeEvent(b)
	return slices.Equal(x, y)
}

// Example 1
func TestExample(t *testing.T) {
	l := audit.Record(run(t, script()...))
	wantCheck(t, "log", l, violation{})
	changed := clone(l)
	postings := changed[4].Events[len(changed[4].Events)-1].Postings
	n := slices.IndexFunc(postings, func(p api.Posting) bool { return p.Delta == 60 })
	postings[n].Delta = 61
	wantCheck(t, "changed", changed, violation{audit.Unbalanced, 4, "BANKA/P1"})
}

// tooLong is a log with one entry too many, and longest one with as many as possible.
func longest() []entry { return make([]entry, engine.MaxCommands) }

func tooLong() []entry { return make([]entry, engine.MaxCommands+1) }

// P55.1 P55.2 P55.3 P55.5: too many entries.
func TestLimit(t *testing.T) {
	l := tooLong()
	v1, e1 := audit.Check(l)
	v2, e2 := audit.History(l, history.New())
	d, e3 := audit.Digest(l)
	r, e4 := audit.Root(l)
	p, e5 := audit.Proof(l, 0)
	if v1 != (violation{}) || v2 != (violation{}) || d != (sha256.Digest{}) || r != (merkle.Hash{}) || len(p) != 0 {
		t.Error("results")
	}
	for _, e := range []api.Errno{e1, e2, e3, e4, e5} {
		if e != api.ErrLimit {
			t.Error("error", e)
		}
	}
	if _, e := audit.History(l, nil); e != api.ErrArgument {
		t.Error("nil history", e)
	}
	l = longest()
	if v, e := audit.Check(l); v != (violation{}) || e != api.OK {
		t.Error("longest", v, e)
	}
	if v, e := audit.History(l, history.New()); v != (violation{}) || e != api.OK {
		t.Error("longest", v, e)
	}
	// These entries are advances to the initial time, which can be encoded.
	if d, e := audit.Digest(l); d == (sha256.Digest{}) || e != api.OK {
		t.Error("longest", e)
	}
}

// P55.2: logs and histories.
func TestHistory(t *testing.T) {
	c := script()
	c = append(c, submit(pay("P2", "BANKA", "BANKB", 50)), submit(pay("P3", "BANKB", "BANKA", 45)), advance(0, 500), submit(pay("P4", "BANKB", "BANKA", 1)))
	e := run(t, c...)
	l, h := audit.Record(e), e.History()
	want := func(name string, l []entry, h *history.History, want violation) {
		t.Helper()
		if v, code := audit.History(l, h); v != want || code != api.OK {
			t.Error(name, v, code)
		}
	}
	mismatch := func(n int) violation { return violation{Kind: audit.Mismatch, Command: n} }
	want("equal", l, h, violation{})
	want("nothing", nil, history.New(), violation{})
	want("no entries", nil, h, mismatch(0))
	want("no history", l, history.New(), mismatch(3))
	want("fewer entries", l[:8], h, mismatch(8))
	want("fewer entries without bundles", l[:6], h, mismatch(6))
	want("fewer bundles", l, run(t, c[:7]...).History(), mismatch(8))
	if n := h.Len(); n != 4 {
		t.Fatal("bundles", n)
	}
	if b, _ := h.At(3); len(b.Parts) != 2 {
		t.Fatal("parts", len(b.Parts))
	}
	for _, change := range []func(x *event){
		func(x *event) { x.Ref += "x" },
		func(x *event) { x.Postings[0].Delta++ },
		func(x *event) { x.Postings[1].Account.Owner = "X" },
		func(x *event) { x.Postings = x.Postings[:1] },
		func(x *event) { x.Postings = nil },
		func(x *event) { x.Kind = engine.Part },
	} {
		other := clone(l)
		x := &other[6].Events[1]
		change(x)
		want("changed", other, h, mismatch(6))
	}
	other := clone(l)
	other[8].Events[1].Clock.Minute++
	want("another time", other, h, mismatch(8))
	// Neither the number nor the amount of an event is recorded.
	other = clone(l)
	other[6].Events[1].Seq, other[6].Events[1].Amount = 99, 99
	want("not recorded", other, h, violation{})
	// An event of another kind between two of a group divides its bundle.
	other = clone(l)
	other[6].Events = slices.Insert(other[6].Events, 2, event{Kind: engine.Accepted})
	want("divided", other, h, mismatch(6))
	// Groups do not go on in the next entry.
	other = clone(l)
	joined := append(clone(other[:6]), entry{other[6].Command, other[6].Events[:2]}, entry{other[6].Command, other[6].Events[2:]})
	want("two entries", append(joined, other[7:]...), h, mismatch(6))
	// Events without postings are no parts.
	other = clone(l)
	other[6].Events = slices.Insert(other[6].Events, 2, event{Kind: engine.Settled, Ref: "x"})
	want("empty", other, h, violation{})
	if _, code := audit.History(l, nil); code != api.ErrArgument {
		t.Error("nil history", code)
	}
}

// P55.3: the hash of a log.
func TestDigest(t *testing.T) {
	e := run(t, script()...)
	l := audit.Record(e)
	if d, code := audit.Digest(l); d != e.Hash() || code != api.OK {
		t.Error("digest", code)
	}
	if d, code := audit.Digest(nil); d != run(t).Hash() || code != api.OK {
		t.Error("empty log", code)
	}
	if d, code := audit.Digest(l[:4]); d == e.Hash() || code != api.OK {
		t.Error("shorter log", code)
	}
	if d, _ := audit.Digest(append(l[:4:4], l[3])); d == e.Hash() {
		t.Error("other log")
	}
	bad := clone(l)
	bad[3].Command.Kind, bad[1].Command = -1, advance(-1, 0)
	_, want := engine.EncodeCommand(bad[1].Command)
	if d, code := audit.Digest(bad); d != (sha256.Digest{}) || code != want || want == api.OK || want == bad[3].Command.Check() {
		t.Error("bad command", code, want)
	}
	if r, code := audit.Root(bad); r != (merkle.Hash{}) || code != want {
		t.Error("bad root", code)
	}
	if p, code := audit.Proof(bad, 0); len(p) != 0 || code != want {
		t.Error("bad proof", code)
	}
	if code := audit.Verify(merkle.Hash{}, 5, 1, bad[1], nil); code != want {
		t.Error("bad entry", code)
	}
}

// P55.5: proofs.
func TestProofs(t *testing.T) {
	l := audit.Record(run(t, script()...))
	var leaves [][]byte
	for _, x := range l {
		leaf, _ := engine.EncodeCommand(x.Command)
		for _, y := range x.Events {
			b, _ := engine.EncodeEvent(y)
			leaf = append(leaf, b...)
		}
		leaves = append(leaves, leaf)
	}
	want, _ := merkle.Root(leaves)
	root, code := audit.Root(l)
	if root != want || code != api.OK {
		t.Error("root", code)
	}
	for n, x := range l {
		proof, code := audit.Proof(l, n)
		inclusion, _ := merkle.Prove(leaves, n)
		if code != api.OK || !slices.Equal(proof, inclusion) {
			t.Error("proof", n, code)
		}
		for k := range l {
			e := audit.Verify(root, len(l), k, x, proof)
			if (e == api.OK) != (k == n) || e != merkle.Verify(root, len(l), k, leaves[n], proof) {
				t.Error("verify", n, "as", k, e)
			}
		}
	}
	proof, _ := audit.Proof(l, 4)
	changed := clone(l)
	changed[4].Events[1].Postings[0].Delta--
	if e := audit.Verify(root, 5, 4, changed[4], proof); e == api.OK {
		t.Error("a changed entry is proved")
	}
	if e := audit.Verify(root, 5, 5, l[4], proof); e != merkle.Verify(root, 5, 5, leaves[4], proof) || e == api.OK {
		t.Error("index", e)
	}
	for _, n := range []int{-1, 5} {
		_, want := merkle.Prove(leaves, n)
		if p, e := audit.Proof(l, n); len(p) != 0 || e != want || want == api.OK {
			t.Error("proof of", n, e)
		}
	}
	empty, _ := merkle.Root(nil)
	if r, e := audit.Root(nil); r != empty || e != api.OK {
		t.Error("empty root", e)
	}
}

// P55.4: engines that are at rest, and engines that are not asked.
func TestRest(t *testing.T) {
	for name, f := range map[string]func(e *engine.Engine) (violation, api.Errno){"rest": audit.Rest, "full": audit.Full} {
		if v, code := f(nil); v != (violation{}) || code != api.ErrArgument {
			t.Error(name, "of nil", v, code)
		}
	}
	// In a pause nothing settles, so that something may be feasible.
	l := []command{member("BANKA"), member("BANKB")}
	e := run(t, l...)
	if v, code := audit.Rest(e); v != (violation{}) || code != api.OK {
		t.Error("no items", v, code)
	}
	wantFull(t, e)
	wantFull(t, run(t))
	waiting := run(t, append(script(), submit(pay("P2", "BANKA", "BANKB", 50)))...)
	if v, code := audit.Rest(waiting); v != (violation{}) || code != api.OK || len(waiting.Orders()) != 1 {
		t.Error("one item waits", v, code)
	}
	wantFull(t, waiting)
}

// P55.4: an engine is not at rest if the accounts refuse the bundle of a feasible set.
func TestNotAtRest(t *testing.T) {
	pledge := message.Instruction{Ref: "G", Kind: message.Pledge, Sender: "BANKA", Asset: isin, Quantity: 50}
	tenth, _ := fraction.New(1, 10)
	// With credit, BANKB would have more cash than an account can hold.
	e := run(t, append(script(), issue(account.CentralBank, "BANKB", api.Cash, api.MaxAmount-100),
		member("ISSUER"), command{Kind: engine.SetSecurity, Security: refdata.Security{ISIN: isin, Issuer: "ISSUER", Lot: 1, Active: true}},
		command{Kind: engine.SetPrice, Asset: isin, Amount: 10}, command{Kind: engine.SetHaircut, Asset: isin, Ratio: tenth},
		issue("ISSUER", "BANKA", isin, 50), submit(pledge), submit(pay("P2", "BANKA", "BANKB", 41)))...)
	if e.AtRest() {
		t.Fatal("the payment has settled")
	}
	wantRest(t, e, violation{Kind: audit.NotAtRest, Command: 13}, violation{Kind: audit.NotAtRest, Command: 13})
	// Outside of the phases that allow Settle, Full does not ask for rest.
	for minute := 420; minute < 1440; minute++ {
		if _, code := e.Step(advance(0, minute)); code != api.OK {
			t.Fatal(code)
		}
		if schedule.Allows(e.Phase(), schedule.Settle) == api.OK || e.AtRest() {
			continue
		}
		wantRest(t, e, violation{Kind: audit.NotAtRest, Command: e.Commands()}, violation{})
		return
	}
	t.Error("no phase in which nothing settles")
}

// P55.4 T4 T5: before anything settles, all kinds of problems wait; what is feasible of them is known from layer 29.
func TestRestInEntry(t *testing.T) {
	counts := map[bool]int{}
	for seed := range uint64(200) {
		d := &driver{t: t, e: run(t, advance(0, 300)), seed: seed}
		for _, m := range members {
			d.must(member(m))
			if cash := d.next(12) - 5; cash > 0 {
				d.must(issue(account.CentralBank, m, api.Cash, int64(cash)))
			}
			if x := d.next(20); x < 10 {
				d.must(limit(m, "", int64(x)))
			}
		}
		for n := range 1 + d.next(9) {
			from, to := d.two()
			i := pay(strconv.Itoa(n), from, to, int64(1+d.next(12)))
			if n > 0 && d.next(6) == 0 {
				i.Links = []message.Link{{Type: d.next(2), Ref: strconv.Itoa(d.next(n))}}
			}
			i.Priority = d.next(3)
			d.e.Step(submit(i))
		}
		p, _ := d.e.Problem()
		feasible, code := feasible.Union(p)
		want := violation{}
		if len(feasible) > 0 {
			want = violation{Kind: audit.NotAtRest, Command: d.e.Commands()}
		}
		counts[len(feasible) > 0]++
		if code != api.OK || d.e.AtRest() != (len(feasible) == 0) {
			t.Error("union", seed, code)
		}
		wantRest(t, d.e, want, violation{})
	}
	if counts[true] < 20 || counts[false] < 20 {
		t.Error("one-sided", counts)
	}
}

func wantRest(t *testing.T, e *engine.Engine, rest, full violation) {
	t.Helper()
	if v, code := audit.Rest(e); v != rest || code != api.OK {
		t.Error("rest", v, code)
	}
	if v, code := audit.Full(e); v != full || code != api.OK {
		t.Error("full", v, code)
	}
}

// P55.6
func TestName(t *testing.T) {
	names := []string{"none", "unbalanced", "overdrawn", "not-versus", "not-at-rest", "overlimit", "mismatch", "wrong-order", "misdigest"}
	kinds := []int{audit.None, audit.Unbalanced, audit.Overdrawn, audit.NotVersus, audit.NotAtRest, audit.Overlimit, audit.Mismatch, audit.WrongOrder, audit.Misdigest}
	for n, name := range names {
		if kinds[n] != n || audit.Name(n) != name {
			t.Error(n, audit.Name(n))
		}
	}
	if audit.NumKinds != 9 || audit.Name(-1) != "" || audit.Name(9) != "" || audit.Name(1<<40) != "" {
		t.Error("other kinds")
	}
}

// P55.8
func TestArguments(t *testing.T) {
	e := run(t, script()...)
	l := audit.Record(e)
	before := clone(l)
	h := e.History()
	audit.Check(l)
	audit.History(l, h)
	audit.Digest(l)
	audit.Root(l)
	audit.Proof(l, 2)
	audit.Full(e)
	for n := range l {
		if !slices.EqualFunc(l[n].Events, before[n].Events, equal) {
			t.Error("entry", n, "has changed")
		}
	}
	p, _ := audit.Proof(l, 2)
	p[0][0] ^= 1
	if q, _ := audit.Proof(l, 2); slices.Equal(p, q) {
		t.Error("a proof is shared")
	}
}

// driver drives an engine by random commands.
type driver struct {
	t           *testing.T
	e           *engine.Engine
	seed        uint64
	day, minute int
	submitted   []message.Instruction
}

var (
	members = []string{"BANKA", "BANKB", "BANKC", "BANKD"}
	assets  = []string{isin, "XS0000000009", "AU0000XVGZA3"}
)

// random returns an engine after random commands.
func random(t *testing.T, seed uint64, steps int) *engine.Engine {
	t.Helper()
	cal, _ := calendar.New([]int{5, 6}, nil)
	e, code := engine.New(cal, schedule.Default())
	if code != api.OK {
		t.Fatal(code)
	}
	d := &driver{t: t, e: e, seed: seed, day: 2, minute: 420}
	d.setUp()
	for n := range steps {
		actions := []func(ref string){
			d.pay, d.pay, d.pay, d.trade, d.trade, d.trade, d.request, d.pledge, d.administer, d.administer, d.announce, d.advance, d.advance,
		}
		actions[d.next(len(actions))](strconv.Itoa(n))
	}
	return e
}

func (d *driver) next(n int) int {
	d.seed = d.seed*6364136223846793005 + 1442695040888963407
	return int(d.seed>>33) % n
}

func (d *driver) member() string { return members[d.next(len(members))] }

func (d *driver) asset() string { return assets[d.next(len(assets))] }

// two returns two different members.
func (d *driver) two() (string, string) {
	n := d.next(len(members))
	return members[n], members[(n+1+d.next(len(members)-1))%len(members)]
}

// must executes a command that is accepted.
func (d *driver) must(c command) {
	d.t.Helper()
	if _, code := d.e.Step(c); code != api.OK {
		d.t.Fatal("command", c.Kind, code)
	}
}

func (d *driver) setUp() {
	d.t.Helper()
	d.must(advance(d.day, d.minute))
	d.must(member("ISSUER"))
	for _, a := range assets {
		haircut, _ := fraction.New(int64(d.next(4)), 10)
		d.must(command{Kind: engine.SetSecurity, Security: refdata.Security{ISIN: a, Issuer: "ISSUER", Lot: 1, Active: true}})
		d.must(command{Kind: engine.SetPrice, Asset: a, Amount: int64(1 + d.next(20))})
		d.must(command{Kind: engine.SetHaircut, Asset: a, Ratio: haircut})
	}
	d.must(issue(account.CentralBank, "ISSUER", api.Cash, int64(1+d.next(300))))
	for _, m := range members {
		d.must(member(m))
		d.must(issue(account.CentralBank, m, api.Cash, int64(20+d.next(200))))
		for _, a := range assets {
			d.must(issue("ISSUER", m, a, int64(10+d.next(80))))
		}
		d.must(command{Kind: engine.SetAuto, From: m, Amount: int64(d.next(2))})
	}
}

// submit submits an instruction, sometimes with a link and for a later day.
func (d *driver) submit(i message.Instruction) {
	if len(d.submitted) > 0 && d.next(5) == 0 {
		i.Links = []message.Link{{Type: d.next(2), Ref: d.submitted[d.next(len(d.submitted))].Ref}}
	}
	i.Priority, i.Hold = d.next(3), d.next(9) == 0
	d.submitted = append(d.submitted, i)
	d.e.Step(submit(i))
}

func (d *driver) pay(ref string) {
	from, to := d.two()
	i := pay("P"+ref, from, to, int64(1+d.next(120)))
	i.Reserve, i.SettleDay = d.next(8) == 0, d.day+d.next(6)/5
	d.submit(i)
}

func (d *driver) trade(ref string) {
	from, to := d.two()
	q, amount := int64(1+d.next(60)), int64(d.next(160)*d.next(2)+50000*(d.next(8)/7))
	x, y := trade("D"+ref, from, to, q, amount), receipt("R"+ref, to, from, q, amount)
	x.Asset = d.asset()
	y.Asset = x.Asset
	if d.next(2) == 0 {
		x.Partial, x.MinLot, y.Partial, y.MinLot = true, int64(1+d.next(5)), true, int64(1+d.next(5))
	}
	x.TradeDay, x.SettleDay = d.day, d.day+d.next(6)/5
	y.TradeDay, y.SettleDay = x.TradeDay, x.SettleDay
	d.submit(x)
	if d.next(8) > 0 {
		d.submit(y)
	}
}

func (d *driver) request(string) {
	if len(d.submitted) == 0 {
		return
	}
	i := d.submitted[d.next(len(d.submitted))]
	c := command{Kind: engine.Submit, Request: message.Request{Op: 1 + d.next(4), Sender: i.Sender, Ref: i.Ref}}
	if c.Request.Op == message.Amend {
		c.Request.Amendment = message.Amendment{HasPriority: true, Priority: d.next(3)}
	}
	d.e.Step(c)
}

func (d *driver) pledge(ref string) {
	d.e.Step(submit(message.Instruction{Ref: "G" + ref, Kind: message.Pledge + d.next(2), Sender: d.member(), Asset: d.asset(), Quantity: int64(1 + d.next(20)), SettleDay: d.day}))
}

func (d *driver) administer(string) {
	from, to := d.two()
	d.e.Step([]command{
		{Kind: engine.Reserve, From: from, Amount: int64(1 + d.next(40))},
		{Kind: engine.Unreserve, From: from, Amount: int64(1 + d.next(40))},
		{Kind: engine.SetPrice, Asset: d.asset(), Amount: int64(1 + d.next(25))},
		limit(from, to, int64(d.next(150)-5)),
		limit(from, "", int64(d.next(150)-5)),
	}[d.next(5)])
}

func (d *driver) announce(ref string) {
	a := corpaction.Event{Id: "E" + ref, Kind: d.next(corpaction.NumKinds), Issuer: "ISSUER", Asset: d.asset(), ExDay: d.day + d.next(2)}
	a.RecordDay = a.ExDay + d.next(2)
	a.PayDay = a.RecordDay
	if a.Kind == corpaction.Dividend || a.Kind == corpaction.Rights {
		a.PayDay += d.next(3)
	}
	if a.Kind == corpaction.Merger || a.Kind == corpaction.Rights {
		a.Into = d.asset()
	}
	if a.Kind == corpaction.Split || a.Kind == corpaction.Merger || a.Kind == corpaction.Rights {
		a.Ratio, _ = fraction.New(int64(1+d.next(4)), int64(1+d.next(3)))
		a.Price = int64(d.next(4))
	}
	if a.Kind == corpaction.Dividend || a.Kind == corpaction.Merger || a.Kind == corpaction.Redemption {
		a.Cash, _ = fraction.New(int64(d.next(4)), int64(1+d.next(5)))
	}
	d.e.Step(command{Kind: engine.Announce, Action: a})
}

// advance goes on to a later time of the day, or to the next business day.
func (d *driver) advance(string) {
	d.minute += d.next(400)
	if d.minute > 1200 {
		d.minute = 420
		for d.day++; d.day%7 < 2; d.day++ {
		}
	}
	d.must(advance(d.day, d.minute))
}

// P55.7 T1 T2 T3 T4 T22 T24: the auditor accepts every engine, and rejects every altered log.
func TestRandom(t *testing.T) {
	kinds := map[int]int{}
	for seed := range uint64(12) {
		e := random(t, seed, 150)
		wantFull(t, e)
		l := audit.Record(e)
		hash := e.Hash()
		total := 0
		for n, x := range l {
			for k, y := range x.Events {
				total++
				kinds[y.Kind]++
				alterDeltas(t, l, n, k, hash)
				alterEvents(t, l, n, k, hash)
			}
		}
		if total < 100 {
			t.Error("too few events", total)
		}
	}
	for k := range engine.NumEvents {
		if kinds[k] == 0 {
			t.Error("no event of kind", k)
		}
	}
}

// alterDeltas changes one delta of an event after the other.
func alterDeltas(t *testing.T, l []entry, n, k int, hash sha256.Digest) {
	t.Helper()
	for j := range l[n].Events[k].Postings {
		changed := clone(l[:n+1])
		changed[n].Events[k].Postings[j].Delta += int64(1 + (n+k+j)%3)
		if v, _ := audit.Check(changed); v.Kind == audit.None || v.Command != n {
			t.Error("a changed delta is not found", n, k, j)
		}
		if d, _ := audit.Digest(append(changed, l[n+1:]...)); d == hash {
			t.Error("equal digests", n, k, j)
		}
	}
}

// alterEvents removes an event, and exchanges it with the next one.
func alterEvents(t *testing.T, l []entry, n, k int, hash sha256.Digest) {
	t.Helper()
	if (n+k)%5 != 0 {
		return
	}
	changed := slices.Clone(l)
	changed[n].Events = slices.Delete(slices.Clone(l[n].Events), k, k+1)
	v, _ := audit.Check(changed)
	if d, _ := audit.Digest(changed); v.Kind == audit.None && d == hash {
		t.Error("a removed event is not found", n, k)
	}
	if k+1 < len(l[n].Events) {
		changed[n].Events = slices.Clone(l[n].Events)
		changed[n].Events[k], changed[n].Events[k+1] = changed[n].Events[k+1], changed[n].Events[k]
		if v, _ := audit.Check(changed); v.Kind != audit.WrongOrder {
			t.Error("exchanged events are not found", n, k)
		}
	}
}

// P55.7: every entry is proved to be in the log.
func TestProved(t *testing.T) {
	l := audit.Record(random(t, 3, 60))
	root, _ := audit.Root(l)
	for n, x := range l {
		proof, e := audit.Proof(l, n)
		if e != api.OK || audit.Verify(root, len(l), n, x, proof) != api.OK {
			t.Error("entry", n, e)
		}
	}
}
