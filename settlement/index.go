package settlement

import (
	"maps"
	"math/bits"
	"slices"

	"giro/api"
	"giro/resource"
)

// index is what the steps beside offsetting need to know of a valid problem. Layer 29 would examine the whole problem for every item.
type index struct {
	resources []resource.Resource // the limited ones
	rooms     []int64             // of the limited resources, at least 0
	places    map[resource.Resource]int
	changes   [][]change // of each item on limited resources
	before    [][]int    // for each item, those that it immediately follows in queues and by After
	closures  []set      // as far as they are known
	blocking  map[string][]string
}

// change is the delta of an item on a limited resource.
type change struct {
	place  int
	amount int64
}

// set is a set of numbers of items, 64 in each element.
type set []uint64

// tally holds the sums of the changes of a set of items, and the resources that it overdraws.
type tally struct {
	index *index
	items set
	sums  []int64
	short map[int]bool
}

// newIndex returns the index of the problem of a situation.
func newIndex(s situation) *index {
	p := s.problem
	x := &index{places: map[resource.Resource]int{}, closures: make([]set, len(p.Items))}
	for n, room := range p.Rooms {
		x.places[room.Resource] = n
		x.resources, x.rooms = append(x.resources, room.Resource), append(x.rooms, max(room.Amount, 0))
	}
	numbers := map[int]int{}
	for n, i := range p.Items {
		numbers[i.Id] = n
	}
	last := map[int]int{}
	for n, i := range p.Items {
		var changes []change
		var before []int
		for _, d := range s.deltas[n] {
			place, limited := x.places[d.Resource]
			if !limited {
				continue
			}
			changes = append(changes, change{place, d.Amount})
			if d.Amount > 0 {
				continue
			}
			if other, found := last[place]; found {
				before = append(before, other)
			}
			last[place] = n
		}
		for _, a := range i.After {
			before = append(before, numbers[a])
		}
		x.changes, x.before = append(x.changes, changes), append(x.before, before)
	}
	return x
}

// room returns the room of a resource, which is the largest amount if it is not limited.
func (x *index) room(r resource.Resource) int64 {
	if place, found := x.places[r]; found {
		return x.rooms[place]
	}
	return api.MaxAmount
}

// closure returns the smallest admissible set that contains an item.
func (x *index) closure(n int) set {
	c := x.newSet()
	c.add(n)
	list := []int{n}
	for k := 0; k < len(list); k++ {
		for _, b := range x.before[list[k]] {
			switch {
			case c.has(b):
			case x.closures[b] != nil:
				c.unite(x.closures[b])
			default:
				c.add(b)
				list = append(list, b)
			}
		}
	}
	x.closures[n] = c
	return c
}

// blocked returns the assets that some item takes from the free accounts of a member, in increasing order.
func (x *index) blocked(member string) []string {
	if x.blocking == nil {
		x.blocking = map[string][]string{}
		for _, a := range x.taken() {
			x.blocking[a.Owner] = append(x.blocking[a.Owner], a.Asset)
		}
	}
	l := slices.Clone(x.blocking[member])
	slices.Sort(l)
	return l
}

// taken returns the free accounts of securities that some item debits.
func (x *index) taken() []api.Account {
	accounts := map[api.Account]bool{}
	for _, changes := range x.changes {
		for _, c := range changes {
			r := x.resources[c.place]
			if c.amount < 0 && r.Kind == resource.Balance && r.Account.Kind == api.Free && r.Account.Asset != api.Cash {
				accounts[r.Account] = true
			}
		}
	}
	return slices.Collect(maps.Keys(accounts))
}

func (x *index) newSet() set { return make(set, (len(x.changes)+63)/64) }

func (s set) has(n int) bool { return s[n/64]>>(n%64)&1 == 1 }

func (s set) add(n int) { s[n/64] |= 1 << (n % 64) }

func (s set) unite(o set) {
	for w := range s {
		s[w] |= o[w]
	}
}

// newTally returns the tally of the empty set.
func (x *index) newTally() *tally {
	return &tally{x, x.newSet(), make([]int64, len(x.rooms)), map[int]bool{}}
}

// move makes the tally that of another set; it costs as much as the sets differ.
func (t *tally) move(to set) {
	for w := range to {
		for diff := t.items[w] ^ to[w]; diff != 0; diff &= diff - 1 {
			n := w*64 + bits.TrailingZeros64(diff)
			sign := int64(-1)
			if to.has(n) {
				sign = 1
			}
			for _, c := range t.index.changes[n] {
				t.change(c.place, sign*c.amount)
			}
		}
		t.items[w] = to[w]
	}
}

func (t *tally) change(place int, amount int64) {
	t.sums[place] += amount
	if t.sums[place]+t.index.rooms[place] < 0 {
		t.short[place] = true
	} else {
		delete(t.short, place)
	}
}

// onlyShortage returns the resource that the set overdraws, if it is only one.
func (t *tally) onlyShortage() (int, bool) {
	for place := range t.short {
		return place, len(t.short) == 1
	}
	return 0, false
}
