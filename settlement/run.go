package settlement

import (
	"slices"

	"giro/api"
	"giro/delivery"
	"giro/limit"
	"giro/offset"
	"giro/partial"
	"giro/resource"
)

// run is a run of an engine: its events, and the situation before the next step.
type run struct {
	situation
	engine *Engine
	events []Event
	idle   int // the number of grants without effect since something happened
}

// maxIdle is the number of grants without effect after which a lender is asked no more, so that every run ends.
const maxIdle = 1000

// settleLargest settles the largest feasible set in one bundle.
func (r *run) settleLargest() (bool, api.Errno) {
	set, code := offset.Largest(r.problem)
	if code != api.OK || len(set) == 0 {
		return false, code
	}
	var items []resource.Item
	var orders group
	for n, i := range r.problem.Items {
		if slices.Contains(set, i.Id) {
			items = append(items, i)
			orders = append(orders, r.groups[n]...)
		}
	}
	if code := r.post(items); code != api.OK {
		return false, code
	}
	sequence := r.engine.accounts.Sequence()
	for _, o := range orders {
		r.events = append(r.events, Event{Kind: Settled, Id: o.id, Sequence: sequence, Postings: o.postings()})
		delete(r.engine.orders, o.id)
		r.engine.done[o.id] = true
	}
	return true, api.OK
}

// raiseCredit asks the lender for the first item that only credit keeps from settling, and that it grants.
func (r *run) raiseCredit() (bool, api.Errno) {
	if r.engine.lender == nil || r.idle >= maxIdle {
		return false, api.OK
	}
	x := newIndex(r.situation)
	t := x.newTally()
	for n := range r.problem.Items {
		t.move(x.closure(n))
		place, only := t.onlyShortage()
		if !only {
			continue
		}
		short, amount := x.resources[place], -(t.sums[place] + x.rooms[place])
		if short.Kind != resource.Balance || short.Account.Kind != api.Free || short.Account.Asset != api.Cash {
			continue
		}
		member := short.Account.Owner
		positions, code := r.engine.lender.Raise(member, amount, x.blocked(member))
		if code != api.OK {
			continue
		}
		if room, _ := r.engine.room(short); room > x.rooms[place] {
			r.idle = 0
		} else {
			r.idle++
		}
		r.events = append(r.events, Event{Kind: Pledged, Id: member, Sequence: r.engine.accounts.Sequence(), Positions: slices.Clone(positions)})
		return true, api.OK
	}
	return false, api.OK
}

// settlePart settles a part of the first trade of which a part can settle.
func (r *run) settlePart() (bool, api.Errno) {
	linked := map[string]bool{}
	for _, o := range r.engine.orders {
		for _, l := range o.links {
			linked[l.Ref] = true
		}
	}
	isCandidate := func(o *order) bool {
		return o.isTrade && len(o.links) == 0 && !linked[o.id] && partial.Allowed(o.trade)
	}
	if !slices.ContainsFunc(r.groups, func(g group) bool { return len(g) == 1 && isCandidate(g[0]) }) {
		return false, api.OK
	}
	x := newIndex(r.situation)
	for n, g := range r.groups {
		if len(g) != 1 || !isCandidate(g[0]) || len(x.before[n]) > 0 {
			continue
		}
		t := g[0].trade
		held := x.room(resource.Resource{Kind: resource.Balance, Account: api.Account{Owner: t.Deliverer, Kind: api.Free, Asset: t.Asset}})
		room := min(
			x.room(resource.Resource{Kind: resource.Balance, Account: api.Account{Owner: t.Receiver, Kind: api.Free, Asset: api.Cash}}),
			x.room(resource.Resource{Kind: resource.Bilateral, From: t.Receiver, To: t.Deliverer}),
			x.room(resource.Resource{Kind: resource.Multilateral, From: t.Receiver}),
		)
		quantity, code := partial.Largest(t, held, room)
		if code == api.OK && quantity > 0 {
			return r.settleQuantity(g[0], quantity)
		}
	}
	return false, api.OK
}

// settleQuantity settles a part of a trade; the rest stays in the engine.
func (r *run) settleQuantity(o *order, quantity int64) (bool, api.Errno) {
	part, rest, code := partial.Split(o.trade, quantity)
	if code != api.OK {
		return false, code
	}
	item, code := delivery.Item(part, api.Free, o.seq, o.seq, nil)
	if code != api.OK {
		return false, code
	}
	if code := r.post([]resource.Item{item}); code != api.OK {
		return false, code
	}
	postings, _ := delivery.Postings(part, api.Free)
	r.events = append(r.events, Event{Kind: Part, Id: o.id, Sequence: r.engine.accounts.Sequence(), Quantity: quantity, Postings: postings})
	c := *o
	c.trade = rest
	r.engine.put(c)
	return true, api.OK
}

// post posts the sum of the postings of items and records their payments, if the limits and the accounts allow it.
func (r *run) post(items []resource.Item) api.Errno {
	// The sums of the deltas of as many items as there may be fit into 64 bits.
	sums := map[api.Account]int64{}
	var flows []limit.Flow
	for _, i := range items {
		for _, p := range i.Postings {
			sums[p.Account] += p.Delta
		}
		for _, p := range i.Payments {
			flows = append(flows, limit.Flow{From: p.From, To: p.To, Amount: p.Amount})
		}
	}
	var postings []api.Posting
	for a, sum := range sums {
		if sum != 0 {
			postings = append(postings, api.Posting{Account: a, Delta: sum})
		}
	}
	slices.SortFunc(postings, func(a, b api.Posting) int {
		return resource.Compare(resource.Resource{Account: a.Account}, resource.Resource{Account: b.Account})
	})
	if code := r.engine.limits.Check(flows); code != api.OK {
		return code
	}
	if len(postings) > 0 {
		if code := r.engine.accounts.Post(postings); code != api.OK {
			return code
		}
	}
	r.idle = 0
	return r.engine.limits.Record(flows)
}
