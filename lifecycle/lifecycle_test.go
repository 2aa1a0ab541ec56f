package lifecycle_test

import (
	"math"
	"slices"
	"testing"

	"giro/api"
	"giro/lifecycle"
)

// table is the transition table of the chapter: the state after each event, or -1.
var table = [lifecycle.NumStates][lifecycle.NumEvents]int{
	// Validate, Reject, Match, Enqueue, Hold, Resume, Part, Settle, Cancel, Expire
	{1, 7, -1, 3, -1, -1, -1, -1, 7, -1},
	{-1, -1, 2, -1, -1, -1, -1, -1, 7, 8},
	{-1, -1, -1, 3, 4, -1, -1, -1, 7, 8},
	{-1, -1, -1, -1, 4, -1, 5, 6, 7, 8},
	{-1, -1, -1, -1, -1, 3, -1, -1, 7, 8},
	{-1, -1, -1, -1, 4, -1, 5, 6, 7, 8},
	{-1, -1, -1, -1, -1, -1, -1, -1, -1, -1},
	{-1, -1, -1, -1, -1, -1, -1, -1, -1, -1},
	{-1, -1, -1, -1, -1, -1, -1, -1, -1, -1},
}

func at(day, minute int) api.Clock { return api.Clock{Day: day, Minute: minute} }

func record(t *testing.T) *lifecycle.Record {
	t.Helper()
	r, e := lifecycle.New("R1", at(5, 100))
	if e != api.OK || r == nil {
		t.Fatal("New", e)
	}
	return r
}

func apply(t *testing.T, r *lifecycle.Record, event, day, minute int, want api.Errno) {
	t.Helper()
	before := r.Clone()
	if e := r.Apply(event, at(day, minute)); e != want {
		t.Errorf("Apply(%d) = %d, want %d", event, e, want)
	}
	if want != api.OK && !r.Equal(before) {
		t.Error("a refused event changes the record")
	}
}

// P25.1
func TestTable(t *testing.T) {
	for s := -1; s <= lifecycle.NumStates; s++ {
		var events []int
		for e := -1; e <= lifecycle.NumEvents; e++ {
			want, code := 0, api.ErrKind
			if s >= 0 && s < lifecycle.NumStates && e >= 0 && e < lifecycle.NumEvents {
				want, code = table[s][e], api.OK
				if want < 0 {
					want, code = 0, api.ErrState
				} else {
					events = append(events, e)
				}
			}
			if got, c := lifecycle.Next(s, e); got != want || c != code {
				t.Error("Next", s, e, got, c)
			}
		}
		if !slices.Equal(lifecycle.Events(s), events) {
			t.Error("Events", s, lifecycle.Events(s))
		}
		if lifecycle.IsFinal(s) != (s >= 6 && s <= 8) {
			t.Error("IsFinal", s)
		}
	}
}

// paths returns all lists of a number of events that are possible from a state, in lexicographic order, with the states that they lead to.
func paths(from, length int) (lists [][]int, ends []int) {
	if length == 0 {
		return [][]int{nil}, []int{from}
	}
	for e, to := range table[from] {
		if to >= 0 {
			rest, final := paths(to, length-1)
			for i := range rest {
				lists = append(lists, append([]int{e}, rest[i]...))
				ends = append(ends, final[i])
			}
		}
	}
	return lists, ends
}

// P25.2 P25.6
func TestPaths(t *testing.T) {
	for from := range lifecycle.NumStates {
		var reached [lifecycle.NumStates]bool
		best := map[int][]int{}
		for length := range 6 {
			lists, ends := paths(from, length)
			for i, to := range ends {
				if length > 0 {
					reached[to] = true
				}
				if _, found := best[to]; !found {
					best[to] = lists[i]
				}
			}
		}
		var states []int
		for to := range lifecycle.NumStates {
			if reached[to] {
				states = append(states, to)
			}
			want, possible := best[to]
			if got, ok := lifecycle.Path(from, to); !slices.Equal(got, want) || ok != possible {
				t.Error("Path", from, to, got, ok, "want", want)
			}
		}
		if !slices.Equal(lifecycle.Reachable(from), states) {
			t.Error("Reachable", from, lifecycle.Reachable(from), states)
		}
		for _, final := range []int{lifecycle.Settled, lifecycle.Cancelled, lifecycle.Failed} {
			if !lifecycle.IsFinal(from) && !slices.Contains(states, final) {
				t.Error("state", final, "cannot be reached from", from)
			}
		}
	}
	for _, s := range []int{-1, lifecycle.NumStates, math.MinInt} {
		p, ok1 := lifecycle.Path(s, 3)
		q, ok2 := lifecycle.Path(3, s)
		r, ok3 := lifecycle.Path(s, s)
		if len(p) != 0 || ok1 || len(q) != 0 || ok2 || len(r) != 0 || ok3 || len(lifecycle.Reachable(s)) != 0 {
			t.Error("not a state", s)
		}
	}
}

// P25.3
func TestNew(t *testing.T) {
	for _, x := range []struct {
		ref   string
		clock api.Clock
		e     api.Errno
	}{{"", at(-1, 0), api.ErrUnknown}, {"a", at(0, 0), api.ErrUnknown}, {"A", at(-1, 0), api.ErrDate}, {"A", at(73049, 0), api.ErrDate}, {"A", at(0, -1), api.ErrDate}, {"A", at(0, 1440), api.ErrDate}, {"A", at(73048, 1439), api.OK}, {"0123456789ABCDEF", at(0, 0), api.OK}} {
		r, e := lifecycle.New(x.ref, x.clock)
		if e != x.e || (r != nil) != (e == api.OK) {
			t.Error("New", x, e)
		}
		if r != nil && (r.Ref() != x.ref || r.State() != lifecycle.Received || len(r.Steps()) != 0) {
			t.Error("new record", r.Ref(), r.State())
		}
	}
}

// P25.4 P25.6
func TestApply(t *testing.T) {
	r := record(t)
	apply(t, r, -1, -1, 0, api.ErrKind)
	apply(t, r, lifecycle.NumEvents, 5, 100, api.ErrKind)
	apply(t, r, lifecycle.Settle, 5, 1440, api.ErrDate)
	apply(t, r, lifecycle.Settle, 73049, 0, api.ErrDate)
	apply(t, r, lifecycle.Settle, 5, 99, api.ErrStale)
	apply(t, r, lifecycle.Settle, 5, 100, api.ErrState)
	apply(t, r, lifecycle.Validate, 5, 100, api.OK)
	apply(t, r, lifecycle.Match, 5, 200, api.OK)
	apply(t, r, lifecycle.Enqueue, 5, 199, api.ErrStale)
	apply(t, r, lifecycle.Enqueue, 6, 0, api.OK)
	apply(t, r, lifecycle.Part, 6, 0, api.OK)
	apply(t, r, lifecycle.Settle, 7, 0, api.OK)
	apply(t, r, lifecycle.Cancel, 6, 0, api.ErrStale)
	apply(t, r, lifecycle.Cancel, 7, 0, api.ErrState)
	want := []lifecycle.Step{{Event: 0, State: 1, Clock: at(5, 100)}, {Event: 2, State: 2, Clock: at(5, 200)}, {Event: 3, State: 3, Clock: at(6, 0)}, {Event: 6, State: 5, Clock: at(6, 0)}, {Event: 7, State: 6, Clock: at(7, 0)}}
	if !slices.Equal(r.Steps(), want) || r.State() != lifecycle.Settled {
		t.Error(r.Steps())
	}
	r.Steps()[0].State = 9
	n := 0
	for i, s := range r.All() {
		if i != n || s != want[i] {
			t.Error("All", i, s)
		}
		n++
		if n == 3 {
			break
		}
	}
	if n != 3 {
		t.Error("iteration goes on")
	}
}

// P25.4
func TestLimit(t *testing.T) {
	r := record(t)
	apply(t, r, lifecycle.Enqueue, 5, 100, api.OK)
	for range lifecycle.MaxHistory - 1 {
		if e := r.Apply(lifecycle.Part, at(5, 100)); e != api.OK {
			t.Fatal(e)
		}
	}
	apply(t, r, lifecycle.Part, 5, 100, api.ErrLimit)
	apply(t, r, lifecycle.Resume, 5, 100, api.ErrState)
	if len(r.Steps()) != lifecycle.MaxHistory {
		t.Error(len(r.Steps()))
	}
}

// P25.5
func TestAt(t *testing.T) {
	r := record(t)
	apply(t, r, lifecycle.Enqueue, 5, 200, api.OK)
	apply(t, r, lifecycle.Hold, 6, 0, api.OK)
	apply(t, r, lifecycle.Resume, 6, 0, api.OK)
	apply(t, r, lifecycle.Expire, 8, 0, api.OK)
	for _, x := range []struct {
		clock api.Clock
		state int
		ok    bool
	}{{at(5, 99), 0, false}, {at(4, 1439), 0, false}, {at(5, 100), 0, true}, {at(5, 199), 0, true}, {at(5, 200), 3, true}, {at(6, 0), 3, true}, {at(7, 1439), 3, true}, {at(8, 0), 8, true}, {at(73048, 1439), 8, true}, {at(73049, 0), 0, false}, {at(6, 1440), 0, false}, {at(6, -1), 0, false}} {
		if s, ok := r.At(x.clock); s != x.state || ok != x.ok {
			t.Error("At", x, s, ok)
		}
	}
}

// P25.5
func TestCloneEqual(t *testing.T) {
	r := record(t)
	apply(t, r, lifecycle.Enqueue, 5, 200, api.OK)
	c := r.Clone()
	if !c.Equal(r) {
		t.Error("clone is not equal")
	}
	apply(t, c, lifecycle.Part, 6, 0, api.OK)
	apply(t, r, lifecycle.Hold, 7, 0, api.OK)
	d := r.Clone()
	apply(t, r, lifecycle.Cancel, 8, 0, api.OK)
	apply(t, d, lifecycle.Resume, 9, 0, api.OK)
	if c.State() != lifecycle.Partly || r.State() != lifecycle.Cancelled || d.State() != lifecycle.Waiting || c.Equal(r) || r.Equal(d) || c.Steps()[1].Event != lifecycle.Part {
		t.Error("clones are not independent")
	}
	a, _ := lifecycle.New("R2", at(5, 100))
	b, _ := lifecycle.New("R1", at(5, 101))
	if a.Equal(record(t)) || b.Equal(record(t)) || !record(t).Equal(record(t)) {
		t.Error("Equal")
	}
	var none *lifecycle.Record
	if e := none.Apply(-1, at(-1, 0)); e != api.ErrArgument {
		t.Error("nil", e)
	}
	for range none.All() {
		t.Error("nil record has steps")
	}
	s, ok := none.At(at(5, 0))
	if none.Ref() != "" || none.State() != 0 || s != 0 || ok || len(none.Steps()) != 0 || none.Clone() != nil || !none.Equal(nil) || none.Equal(a) || a.Equal(nil) {
		t.Error("nil record")
	}
}

// Example 1
func TestExample(t *testing.T) {
	s, _ := lifecycle.Next(lifecycle.Waiting, lifecycle.Part)
	_, e := lifecycle.Next(lifecycle.Settled, lifecycle.Cancel)
	p, _ := lifecycle.Path(lifecycle.Received, lifecycle.Settled)
	_, ok := lifecycle.Path(lifecycle.Settled, lifecycle.Received)
	if s != lifecycle.Partly || e != api.ErrState || !slices.Equal(p, []int{3, 7}) || ok {
		t.Error(s, e, p, ok)
	}
}

// P25.4: the second event is compared with the first one.
func TestSecondEvent(t *testing.T) {
	r := record(t)
	apply(t, r, lifecycle.Enqueue, 5, 200, api.OK)
	apply(t, r, lifecycle.Hold, 5, 199, api.ErrStale)
	apply(t, r, lifecycle.Hold, 5, 200, api.OK)
}
