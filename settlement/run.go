package settlement

import (
	"maps"
	"slices"

	"giro/api"
	"giro/delivery"
	"giro/limit"
	"giro/offset"
	"giro/partial"
	"giro/resource"
)

// run is a run of an engine: its events, and the problem with its groups as they are before the next step.
type run struct {
	engine  *Engine
	events  []Event
	groups  []group
	problem resource.Problem
	idle    int // the number of grants without effect since something happened
}

// maxIdle is the number of grants without effect after which a lender is asked no more, so that every run ends.
const maxIdle = 1000

// index is what the steps beside offsetting need to know of a valid problem: the rooms, and for each item its deltas on limited resources and the items that it immediately follows in queues and by After.
type index struct {
	rooms  map[resource.Resource]int64
	deltas [][]resource.Delta
	before [][]int
}

// settleLargest settles the largest feasible set in one bundle.
func (r *run) settleLargest() (bool, api.Errno) {
	set, code := offset.Largest(r.problem)
	if code != api.OK || len(set) == 0 {
		return false, code
	}
	var items []resource.Item
	var orders group
	for n, i := range r.problem.Items {
		if slices.Contains(set, i.Id) {
			items = append(items, i)
			orders = append(orders, r.groups[n]...)
		}
	}
	if code := r.post(items); code != api.OK {
		return false, code
	}
	sequence := r.engine.accounts.Sequence()
	for _, o := range orders {
		r.events = append(r.events, Event{Kind: Settled, Id: o.id, Sequence: sequence, Postings: o.postings()})
		delete(r.engine.orders, o.id)
		r.engine.done[o.id] = true
	}
	return true, api.OK
}

// raiseCredit asks the lender for the first item that only credit keeps from settling, and that it grants.
func (r *run) raiseCredit() (bool, api.Errno) {
	if r.engine.lender == nil || r.idle >= maxIdle {
		return false, api.OK
	}
	x := r.newIndex()
	for n := range r.problem.Items {
		short, amount, only := x.onlyShortage(x.closure(n))
		if !only || short.Kind != resource.Balance || short.Account.Kind != api.Free || short.Account.Asset != api.Cash {
			continue
		}
		member := short.Account.Owner
		positions, code := r.engine.lender.Raise(member, amount, x.blocked(member))
		if code != api.OK {
			continue
		}
		if room, _ := r.engine.room(short); room > x.rooms[short] {
			r.idle = 0
		} else {
			r.idle++
		}
		r.events = append(r.events, Event{Kind: Pledged, Id: member, Sequence: r.engine.accounts.Sequence(), Positions: slices.Clone(positions)})
		return true, api.OK
	}
	return false, api.OK
}

// settlePart settles a part of the first trade of which a part can settle.
func (r *run) settlePart() (bool, api.Errno) {
	linked := map[string]bool{}
	for _, o := range r.engine.orders {
		for _, l := range o.links {
			linked[l.Ref] = true
		}
	}
	isCandidate := func(o *order) bool {
		return o.isTrade && len(o.links) == 0 && !linked[o.id] && partial.Allowed(o.trade)
	}
	if !slices.ContainsFunc(r.groups, func(g group) bool { return len(g) == 1 && isCandidate(g[0]) }) {
		return false, api.OK
	}
	x := r.newIndex()
	for n, g := range r.groups {
		if len(g) != 1 || !isCandidate(g[0]) || len(x.before[n]) > 0 {
			continue
		}
		t := g[0].trade
		held := x.room(resource.Resource{Kind: resource.Balance, Account: api.Account{Owner: t.Deliverer, Kind: api.Free, Asset: t.Asset}})
		room := min(
			x.room(resource.Resource{Kind: resource.Balance, Account: api.Account{Owner: t.Receiver, Kind: api.Free, Asset: api.Cash}}),
			x.room(resource.Resource{Kind: resource.Bilateral, From: t.Receiver, To: t.Deliverer}),
			x.room(resource.Resource{Kind: resource.Multilateral, From: t.Receiver}),
		)
		quantity, code := partial.Largest(t, held, room)
		if code == api.OK && quantity > 0 {
			return r.settleQuantity(g[0], quantity)
		}
	}
	return false, api.OK
}

// settleQuantity settles a part of a trade; the rest stays in the engine.
func (r *run) settleQuantity(o *order, quantity int64) (bool, api.Errno) {
	part, rest, code := partial.Split(o.trade, quantity)
	if code != api.OK {
		return false, code
	}
	item, code := delivery.Item(part, api.Free, o.seq, o.seq, nil)
	if code != api.OK {
		return false, code
	}
	if code := r.post([]resource.Item{item}); code != api.OK {
		return false, code
	}
	postings, _ := delivery.Postings(part, api.Free)
	r.events = append(r.events, Event{Kind: Part, Id: o.id, Sequence: r.engine.accounts.Sequence(), Quantity: quantity, Postings: postings})
	c := *o
	c.trade = rest
	r.engine.put(c)
	return true, api.OK
}

// post posts the sum of the postings of items and records their payments, if the limits and the accounts allow it.
func (r *run) post(items []resource.Item) api.Errno {
	// The sums of the deltas of as many items as there may be fit into 64 bits.
	sums := map[api.Account]int64{}
	var flows []limit.Flow
	for _, i := range items {
		for _, p := range i.Postings {
			sums[p.Account] += p.Delta
		}
		for _, p := range i.Payments {
			flows = append(flows, limit.Flow{From: p.From, To: p.To, Amount: p.Amount})
		}
	}
	var postings []api.Posting
	for a, sum := range sums {
		if sum != 0 {
			postings = append(postings, api.Posting{Account: a, Delta: sum})
		}
	}
	slices.SortFunc(postings, func(a, b api.Posting) int {
		return resource.Compare(resource.Resource{Account: a.Account}, resource.Resource{Account: b.Account})
	})
	if code := r.engine.limits.Check(flows); code != api.OK {
		return code
	}
	if len(postings) > 0 {
		if code := r.engine.accounts.Post(postings); code != api.OK {
			return code
		}
	}
	r.idle = 0
	return r.engine.limits.Record(flows)
}

// newIndex returns the index of the problem.
func (r *run) newIndex() index {
	x := index{rooms: map[resource.Resource]int64{}}
	for _, room := range r.problem.Rooms {
		x.rooms[room.Resource] = max(room.Amount, 0)
	}
	places := map[int]int{}
	for n, i := range r.problem.Items {
		places[i.Id] = n
	}
	last := map[resource.Resource]int{}
	for n, i := range r.problem.Items {
		var limited []resource.Delta
		var before []int
		deltas, _ := i.Deltas()
		for _, d := range deltas {
			if _, found := x.rooms[d.Resource]; !found {
				continue
			}
			limited = append(limited, d)
			if d.Amount > 0 {
				continue
			}
			if other, found := last[d.Resource]; found {
				before = append(before, other)
			}
			last[d.Resource] = n
		}
		for _, a := range i.After {
			before = append(before, places[a])
		}
		x.deltas, x.before = append(x.deltas, limited), append(x.before, before)
	}
	return x
}

// closure returns the smallest admissible set that contains an item. Layer 29 would examine the whole problem for every item.
func (x index) closure(n int) []int {
	in := map[int]bool{n: true}
	list := []int{n}
	for k := 0; k < len(list); k++ {
		for _, b := range x.before[list[k]] {
			if !in[b] {
				in[b] = true
				list = append(list, b)
			}
		}
	}
	return list
}

// onlyShortage returns the resource that a set overdraws and the shortfall, and whether it is the only one.
func (x index) onlyShortage(set []int) (resource.Resource, int64, bool) {
	sums := map[resource.Resource]int64{}
	for _, n := range set {
		for _, d := range x.deltas[n] {
			sums[d.Resource] += d.Amount
		}
	}
	var short resource.Resource
	var amount int64
	count := 0
	for r, sum := range sums {
		if sum+x.rooms[r] < 0 {
			short, amount = r, -(sum + x.rooms[r])
			count++
		}
	}
	return short, amount, count == 1
}

// blocked returns the assets that some item takes from the free accounts of a member, in increasing order.
func (x index) blocked(member string) []string {
	assets := map[string]bool{}
	for _, deltas := range x.deltas {
		for _, d := range deltas {
			a := d.Resource.Account
			if d.Resource.Kind == resource.Balance && d.Amount < 0 && a.Owner == member && a.Kind == api.Free && a.Asset != api.Cash {
				assets[a.Asset] = true
			}
		}
	}
	return slices.Sorted(maps.Keys(assets))
}

// room returns the room of a resource, which is the largest amount if it is not limited.
func (x index) room(r resource.Resource) int64 {
	if amount, found := x.rooms[r]; found {
		return amount
	}
	return api.MaxAmount
}
