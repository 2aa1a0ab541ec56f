package audit

import (
	"math/bits"

	"giro/api"
	"giro/date"
	"giro/engine"
	"giro/message"
	"giro/schedule"
)

// pair is two members, or one against all others.
type pair struct {
	from, to string
	all      bool
}

// total is a sum of any number of amounts, in 128 bits.
type total struct{ high, low uint64 }

// auditor is the state of an auditor.
type auditor struct {
	clock        api.Clock
	seq          int
	balances     map[api.Account]total
	pledged      map[string]bool // the owners that have had pledged securities after some group
	limits       map[pair]int64
	nets         map[pair]total // both directions, and the outflows
	instructions map[string]message.Instruction
	settled      map[string]bool
}

// progress is where an auditor stands within an entry.
type progress struct {
	command engine.Command
	clock   api.Clock // of the previous event
	event   engine.Event
	flows   map[pair]total // of the group so far, both directions, and the outflows
	deltas  map[api.Account]total
}

func newAuditor() *auditor {
	return &auditor{
		balances: map[api.Account]total{}, pledged: map[string]bool{}, limits: map[pair]int64{}, nets: map[pair]total{},
		instructions: map[string]message.Instruction{}, settled: map[string]bool{},
	}
}

// check processes an entry and returns its first violation.
func (a *auditor) check(n int, x Entry) Violation {
	a.begin(x.Command)
	p := &progress{command: x.Command, clock: a.clock}
	for _, group := range groups(x.Events) {
		p.flows, p.deltas = map[pair]total{}, map[api.Account]total{}
		for _, event := range group {
			p.event = event
			for _, rule := range []func(p *progress) int{a.checkSeq, a.checkClock, a.checkPostings, a.checkOrder} {
				if kind := rule(p); kind != None {
					return Violation{kind, n, event.Ref}
				}
			}
			a.pass(p)
		}
		a.post(p)
		for _, rule := range []func(p *progress) int{a.checkBalances, a.checkLimits} {
			if kind := rule(p); kind != None {
				return Violation{kind, n, p.event.Ref}
			}
		}
		a.notePledges(p)
	}
	if x.Command.Kind == engine.Advance {
		a.clock = x.Command.Clock
	}
	return Violation{}
}

// begin takes a limit or an instruction from a command.
func (a *auditor) begin(c engine.Command) {
	set := func(p pair) {
		if c.Amount < 0 {
			delete(a.limits, p)
		} else {
			a.limits[p] = c.Amount
		}
	}
	switch {
	case c.Kind == engine.SetBilateral:
		set(pair{from: c.From, to: c.To})
	case c.Kind == engine.SetMultilateral:
		set(pair{from: c.From, all: true})
	case c.Kind == engine.Submit && c.Request.Op == message.Submit:
		i := c.Request.Instruction
		a.instructions[i.Sender+"/"+i.Ref] = i
	}
}

// The rules of events.

func (a *auditor) checkSeq(p *progress) int {
	if p.event.Seq != a.seq+1 {
		return WrongOrder
	}
	return None
}

func (a *auditor) checkClock(p *progress) int {
	if p.command.Kind != engine.Advance {
		if p.event.Clock != a.clock {
			return WrongOrder
		}
		return None
	}
	if date.CompareClock(p.event.Clock, p.clock) < 0 || date.CompareClock(p.event.Clock, p.command.Clock) > 0 {
		return WrongOrder
	}
	return None
}

func (a *auditor) checkPostings(p *progress) int {
	sums := map[string]total{}
	for _, x := range p.event.Postings {
		if x.Delta == 0 || x.Delta < -api.MaxAmount || x.Delta > api.MaxAmount {
			return Unbalanced
		}
		sums[x.Account.Asset] = sums[x.Account.Asset].add(x.Delta)
	}
	for _, sum := range sums {
		if sum != (total{}) {
			return Unbalanced
		}
	}
	return None
}

func (a *auditor) checkOrder(p *progress) int {
	if p.event.Kind != engine.Settled && p.event.Kind != engine.Part {
		return None
	}
	i, found := a.instructions[p.event.Ref]
	isDelivery := i.Kind == message.DvP || i.Kind == message.Free
	if !found || a.settled[p.event.Ref] || i.Kind == message.Pledge || i.Kind == message.Release || isDelivery && i.Side == message.Receive {
		return Mismatch
	}
	if isDelivery && !isExchange(i, p.event.Postings) || !isDelivery && !isPayment(i, p.event.Postings) {
		return NotVersus
	}
	return None
}

// The rules of groups.

func (a *auditor) checkBalances(p *progress) int {
	for k, delta := range p.deltas {
		if k.Kind == api.Issued || !delta.negative() || !a.balances[k].negative() {
			continue
		}
		onCredit := k.Kind == api.Free && k.Asset == api.Cash && (a.pledged[k.Owner] || a.hasPledges(k.Owner, p))
		if !onCredit {
			return Overdrawn
		}
	}
	return None
}

func (a *auditor) checkLimits(p *progress) int {
	for k, flow := range p.flows {
		limit, limited := a.limits[k]
		if limited && flow.positive() && a.nets[k].add(-limit).positive() {
			return Overlimit
		}
	}
	return None
}

// pass takes an event over that has no violation of its own.
func (a *auditor) pass(p *progress) {
	x := p.event
	a.seq, p.clock = x.Seq, x.Clock
	for _, y := range x.Postings {
		p.deltas[y.Account] = p.deltas[y.Account].add(y.Delta)
	}
	if x.Kind == engine.PhaseBegun && x.Ref == schedule.PhaseName(schedule.Start) {
		clear(a.nets)
	}
	if x.Kind == engine.Settled {
		a.settled[x.Ref] = true
	}
	if x.Kind != engine.Settled && x.Kind != engine.Part {
		return
	}
	switch i := a.instructions[x.Ref]; i.Kind {
	case message.Payment:
		p.flow(i.Sender, i.Counterparty, i.Amount)
	case message.DvP:
		// The last posting is the cash that the deliverer receives.
		p.flow(i.Counterparty, i.Sender, x.Postings[len(x.Postings)-1].Delta)
	}
}

// flow adds a payment to the flows of the group.
func (p *progress) flow(from, to string, x int64) {
	add := func(k pair, delta int64) { p.flows[k] = p.flows[k].add(delta) }
	add(pair{from: from, to: to}, x)
	add(pair{from: to, to: from}, -x)
	add(pair{from: from, all: true}, x)
	add(pair{from: to, all: true}, -x)
}

// post adds the postings and flows of a group to the balances and net amounts.
func (a *auditor) post(p *progress) {
	for k, delta := range p.deltas {
		a.balances[k] = a.balances[k].plus(delta)
	}
	for k, flow := range p.flows {
		a.nets[k] = a.nets[k].plus(flow)
	}
}

// hasPledges reports whether an owner has pledged securities after a group that changed them.
func (a *auditor) hasPledges(owner string, p *progress) bool {
	for k := range p.deltas {
		if k.Owner == owner && k.Kind == api.Pledged && a.balances[k].positive() {
			return true
		}
	}
	return false
}

// notePledges notes the owners that have pledged securities after a group.
func (a *auditor) notePledges(p *progress) {
	for k := range p.deltas {
		if k.Kind == api.Pledged && a.balances[k].positive() {
			a.pledged[k.Owner] = true
		}
	}
}

// isPayment reports whether postings are those of a payment.
func isPayment(i message.Instruction, l []api.Posting) bool {
	source := api.Free
	if i.Reserve {
		source = api.Reserved
	}
	return len(l) == 2 && isMovement(l, i.Sender, source, i.Counterparty, api.Cash) && l[1].Delta == i.Amount
}

// isExchange reports whether postings are those of a delivery, against payment if the instruction says so.
func isExchange(i message.Instruction, l []api.Posting) bool {
	count := 2
	if i.Kind == message.DvP {
		count = 4
	}
	if len(l) != count {
		return false
	}
	asset := l[0].Account.Asset
	if asset == api.Cash || !isMovement(l, i.Sender, api.Free, i.Counterparty, asset) || l[1].Delta <= 0 {
		return false
	}
	return i.Kind == message.Free || isMovement(l[2:], i.Counterparty, api.Free, i.Sender, api.Cash) && l[3].Delta > 0
}

// isMovement reports whether the first two postings move an asset from one owner to the free account of another one.
func isMovement(l []api.Posting, from string, kind int, to, asset string) bool {
	return l[0].Account == (api.Account{Owner: from, Kind: kind, Asset: asset}) &&
		l[1].Account == (api.Account{Owner: to, Kind: api.Free, Asset: asset}) && l[0].Delta == -l[1].Delta
}

// add returns the sum of a total and an amount, whose sign is extended to 128 bits.
func (t total) add(x int64) total { return t.plus(total{uint64(x >> 63), uint64(x)}) }

// plus returns the sum of two totals.
func (t total) plus(o total) total {
	low, carry := bits.Add64(t.low, o.low, 0)
	high, _ := bits.Add64(t.high, o.high, carry)
	return total{high, low}
}

func (t total) negative() bool { return int64(t.high) < 0 }

func (t total) positive() bool { return !t.negative() && t != total{} }
