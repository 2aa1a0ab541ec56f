package settlement

import (
	"slices"

	"giro/api"
	"giro/message"
	"giro/resource"
)

// group is a set of orders that are connected by With links, in order.
type group []*order

// candidate is a group that can be an item, and the groups whose orders it must follow.
type candidate struct {
	group  group
	item   resource.Item
	deltas []resource.Delta
	after  map[int]bool
}

// situation is a problem with the groups that are its items, and the deltas of the items. The items share memory with the orders.
type situation struct {
	problem resource.Problem
	groups  []group
	deltas  [][]resource.Delta
}

// situation returns the problem as it is now.
func (e *Engine) situation() situation {
	all := e.groups()
	number := map[string]int{}
	for n, g := range all {
		for _, o := range g {
			number[o.id] = n
		}
	}
	candidates := map[int]candidate{}
	for n, g := range all {
		if c, ok := e.candidate(g, n, number); ok {
			candidates[n] = c
		}
	}
	e.dropUnfollowed(candidates, number)
	var s situation
	for n := range all {
		c, found := candidates[n]
		if !found {
			continue
		}
		var after []int
		for other := range c.after {
			after = append(after, candidates[other].item.Id)
		}
		slices.Sort(after)
		c.item.After = after
		s.problem.Items = append(s.problem.Items, c.item)
		s.groups, s.deltas = append(s.groups, c.group), append(s.deltas, c.deltas)
	}
	s.problem.Rooms = e.rooms(s.deltas)
	return s
}

// groups returns all groups in the order of their first orders.
func (e *Engine) groups() []group {
	orders := e.sorted()
	parent := map[string]string{}
	for _, o := range orders {
		parent[o.id] = o.id
	}
	find := func(id string) string {
		for parent[id] != id {
			parent[id] = parent[parent[id]]
			id = parent[id]
		}
		return id
	}
	for _, o := range orders {
		for _, l := range o.links {
			if l.Type == message.With && e.orders[l.Ref] != nil {
				parent[find(o.id)] = find(l.Ref)
			}
		}
	}
	number := map[string]int{}
	var groups []group
	for _, o := range orders {
		root := find(o.id)
		n, found := number[root]
		if !found {
			n = len(groups)
			number[root] = n
			groups = append(groups, nil)
		}
		groups[n] = append(groups[n], o)
	}
	return groups
}

// candidate returns a group with its item, if it can be one, and the other groups of the engine that it must follow.
func (e *Engine) candidate(g group, n int, number map[string]int) (candidate, bool) {
	c := candidate{group: g, after: map[int]bool{}}
	for _, o := range g {
		if o.held {
			return candidate{}, false
		}
		for _, l := range o.links {
			other, found := number[l.Ref]
			if l.Type == message.With && !found {
				return candidate{}, false
			}
			if l.Type == message.After && found && other != n {
				c.after[other] = true
			}
		}
	}
	if len(c.after) > resource.MaxPostings {
		return candidate{}, false
	}
	if len(g) == 1 {
		c.item, c.deltas = g[0].merged, g[0].deltas
		return c, g[0].mergeable
	}
	var items []resource.Item
	for _, o := range g {
		items = append(items, o.item)
	}
	var code api.Errno
	c.item, code = resource.Merge(items)
	c.deltas, _ = c.item.Deltas()
	return c, code == api.OK
}

// dropUnfollowed removes candidates that must follow an order which has not settled and is not an order of a candidate.
func (e *Engine) dropUnfollowed(candidates map[int]candidate, number map[string]int) {
	for changed := true; changed; {
		changed = false
		for n, c := range candidates {
			if !e.canFollow(c.group, candidates, number) {
				delete(candidates, n)
				changed = true
			}
		}
	}
}

// canFollow reports whether all orders that a group must follow have settled or are orders of candidates.
func (e *Engine) canFollow(g group, candidates map[int]candidate, number map[string]int) bool {
	for _, o := range g {
		for _, l := range o.links {
			if l.Type != message.After || e.done[l.Ref] {
				continue
			}
			n, found := number[l.Ref]
			if !found {
				return false
			}
			if _, found := candidates[n]; !found {
				return false
			}
		}
	}
	return true
}

// rooms returns the rooms of all limited resources that items with given deltas change.
func (e *Engine) rooms(items [][]resource.Delta) []resource.Room {
	seen := map[resource.Resource]bool{}
	var rooms []resource.Room
	for _, deltas := range items {
		for _, d := range deltas {
			if seen[d.Resource] {
				continue
			}
			seen[d.Resource] = true
			if amount, limited := e.room(d.Resource); limited {
				rooms = append(rooms, resource.Room{Resource: d.Resource, Amount: amount})
			}
		}
	}
	slices.SortFunc(rooms, func(a, b resource.Room) int { return resource.Compare(a.Resource, b.Resource) })
	return rooms
}

// room returns what is left of a resource, and whether it is limited.
func (e *Engine) room(r resource.Resource) (int64, bool) {
	switch r.Kind {
	case resource.Bilateral:
		return e.limits.BilateralRoom(r.From, r.To)
	case resource.Multilateral:
		return e.limits.MultilateralRoom(r.From)
	}
	if r.Account.Kind == api.Issued {
		return 0, false
	}
	return e.accounts.Balance(r.Account) - e.accounts.Floor(r.Account), true
}
