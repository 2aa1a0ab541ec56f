package schedule_test

import (
	"math"
	"slices"
	"testing"

	"giro/api"
	"giro/calendar"
	"giro/message"
	"giro/schedule"
)

const monday = 9816

func week(t *testing.T) *calendar.Calendar {
	t.Helper()
	c, e := calendar.New([]int{5, 6}, []int{monday + 2})
	if e != api.OK {
		t.Fatal(e)
	}
	return c
}

func at(day, minute int) api.Clock { return api.Clock{Day: day, Minute: minute} }

// P47.1
func TestCheck(t *testing.T) {
	d := schedule.Default()
	if d.Begins != [6]int{150, 300, 420, 960, 1020, 1080} || d.Check() != api.OK {
		t.Error(d)
	}
	for n, x := range []struct {
		begins [6]int
		e      api.Errno
	}{{[6]int{0, 1, 2, 3, 4, 5}, api.OK}, {[6]int{1434, 1435, 1436, 1437, 1438, 1439}, api.OK}, {[6]int{-1, 1, 2, 3, 4, 5}, api.ErrRange}, {[6]int{0, 1, 2, 3, 4, 1440}, api.ErrRange}, {[6]int{0, 1, 1, 3, 4, 5}, api.ErrRange}, {[6]int{0, 2, 1, 3, 4, 5}, api.ErrRange}, {[6]int{}, api.ErrRange}} {
		s := schedule.Schedule{Begins: x.begins}
		if e := s.Check(); e != x.e {
			t.Error("Check", n, e)
		}
	}
	cal := week(t)
	for n, x := range []struct {
		s     schedule.Schedule
		cal   *calendar.Calendar
		clock api.Clock
		e     api.Errno
	}{{schedule.Schedule{}, nil, at(-1, 0), api.ErrRange}, {d, nil, at(-1, 0), api.ErrArgument}, {d, cal, at(-1, 0), api.ErrRange}, {d, cal, at(73049, 0), api.ErrRange}, {d, cal, at(0, -1), api.ErrRange}, {d, cal, at(0, 1440), api.ErrRange}} {
		a, e1 := x.s.Phase(x.clock, x.cal)
		b, e2 := x.s.Changes(x.clock, at(9999, 0), x.cal)
		c, e3 := x.s.Changes(at(monday, 0), x.clock, x.cal)
		f, e4 := x.s.Next(x.clock, x.cal)
		if a != 0 || len(b) != 0 || len(c) != 0 || f != (schedule.Change{}) || e1 != x.e || e2 != x.e || e3 != x.e || e4 != x.e {
			t.Error("errors", n, e1, e2, e3, e4)
		}
		if x.clock.Minute == 0 {
			if g, e := x.s.Begin(x.clock.Day, 9, x.cal); g != (api.Clock{}) || e != x.e {
				t.Error("Begin", n, e)
			}
		}
	}
}

// P47.2 P47.7
func TestPhase(t *testing.T) {
	s, cal := schedule.Default(), week(t)
	for day := monday; day < monday+8; day++ {
		for minute := range 1440 {
			want := schedule.Night
			for n, b := range s.Begins {
				if cal.IsBusiness(day) && minute >= b {
					want = n + 1
				}
			}
			if got, e := s.Phase(at(day, minute), cal); got != want || e != api.OK {
				t.Fatal("Phase", day, minute, got, e)
			}
		}
	}
	for phase := schedule.Start; phase <= schedule.Close; phase++ {
		c, e := s.Begin(monday, phase, cal)
		p, _ := s.Phase(c, cal)
		if c != at(monday, s.Begins[phase-1]) || e != api.OK || p != phase {
			t.Error("Begin", phase, c, e)
		}
	}
	for n, x := range []struct {
		day, phase int
		e          api.Errno
	}{{monday + 5, 0, api.ErrKind}, {monday, 7, api.ErrKind}, {monday, -1, api.ErrKind}, {monday + 5, 1, api.ErrDate}, {monday + 2, 6, api.ErrDate}} {
		if c, e := s.Begin(x.day, x.phase, cal); c != (api.Clock{}) || e != x.e {
			t.Error("Begin", n, e)
		}
	}
}

// P47.3 P47.7
func TestChanges(t *testing.T) {
	s, cal := schedule.Default(), week(t)
	var all []schedule.Change
	for day := monday; day < monday+9; day++ {
		for n, b := range s.Begins {
			if cal.IsBusiness(day) {
				all = append(all, schedule.Change{Clock: at(day, b), Phase: n + 1})
			}
		}
	}
	later := func(a, b api.Clock) bool { return a.Day > b.Day || a.Day == b.Day && a.Minute > b.Minute }
	points := []api.Clock{at(monday, 0), at(monday, 150), at(monday, 151), at(monday, 1439), at(monday+1, 1080), at(monday+2, 500), at(monday+4, 1079), at(monday+5, 0), at(monday+8, 1080)}
	for _, after := range points {
		for _, upto := range points {
			var want []schedule.Change
			for _, x := range all {
				if later(x.Clock, after) && !later(x.Clock, upto) {
					want = append(want, x)
				}
			}
			if got, e := s.Changes(after, upto, cal); !slices.Equal(got, want) || e != api.OK {
				t.Error("Changes", after, upto, got, e)
			}
		}
		next := slices.IndexFunc(all, func(x schedule.Change) bool { return later(x.Clock, after) })
		if next >= 0 {
			if got, e := s.Next(after, cal); got != all[next] || e != api.OK {
				t.Error("Next", after, got, e)
			}
		}
	}
	if l, e := s.Changes(at(monday, 0), at(monday+400, 1439), cal); len(l) == 0 || e != api.OK {
		t.Error("longest", len(l), e)
	}
	if l, e := s.Changes(at(monday, 1439), at(monday+401, 0), cal); len(l) != 0 || e != api.ErrLimit {
		t.Error("too long", len(l), e)
	}
	if l, e := s.Changes(at(73048, 0), at(0, 0), cal); len(l) != 0 || e != api.OK {
		t.Error("backwards", len(l), e)
	}
	if x, e := s.Next(at(73048, 1439), cal); x != (schedule.Change{}) || e != api.ErrDate {
		t.Error("end", x, e)
	}
}

// P47.4
func TestAllows(t *testing.T) {
	spans := [][2]int{{0, 5}, {2, 3}, {2, 4}, {2, 4}, {2, 5}, {3, 5}, {6, 6}}
	for phase := -1; phase <= schedule.NumPhases; phase++ {
		for action := -1; action <= schedule.NumActions; action++ {
			want := api.ErrKind
			if phase >= 0 && phase < 7 && action >= 0 && action < 7 {
				want = api.OK
				if phase < spans[action][0] {
					want = api.ErrClosed
				} else if phase > spans[action][1] {
					want = api.ErrCutoff
				}
			}
			if e := schedule.Allows(phase, action); e != want {
				t.Error("Allows", phase, action, e)
			}
		}
	}
}

// P47.5
func TestNames(t *testing.T) {
	names := []string{"night", "start", "entry", "realtime", "cutoff-dvp", "cutoff-pay", "close"}
	for p := -2; p < 9; p++ {
		want := ""
		if p >= 0 && p < 7 {
			want = names[p]
			if got, e := schedule.ParsePhase(want); got != p || e != api.OK {
				t.Error("ParsePhase", want, got, e)
			}
		}
		if schedule.PhaseName(p) != want {
			t.Error("PhaseName", p)
		}
	}
	for _, s := range []string{"", "Night", "cutoff", "close "} {
		if p, e := schedule.ParsePhase(s); p != 0 || e != api.ErrUnknown {
			t.Error("ParsePhase", s, p, e)
		}
	}
}

// P47.6
func TestActionOf(t *testing.T) {
	for kind, want := range []int{schedule.Pay, schedule.Deliver, schedule.Deliver, schedule.Collateral, schedule.Collateral} {
		if a, e := schedule.ActionOf(message.Submit, kind); a != want || e != api.OK {
			t.Error("submit", kind, a, e)
		}
	}
	for _, kind := range []int{-1, 5, math.MaxInt} {
		if a, e := schedule.ActionOf(message.Submit, kind); a != 0 || e != api.ErrKind {
			t.Error("submit", kind, a, e)
		}
		for op := message.Amend; op < message.Operations; op++ {
			if a, e := schedule.ActionOf(op, kind); a != schedule.Modify || e != api.OK {
				t.Error("operation", op, a, e)
			}
		}
	}
	for _, op := range []int{-1, 5} {
		if a, e := schedule.ActionOf(op, 0); a != 0 || e != api.ErrKind {
			t.Error("operation", op, a, e)
		}
	}
}

// Example 1
func TestExample(t *testing.T) {
	c, _ := calendar.New([]int{5, 6}, nil)
	s := schedule.Default()
	p, _ := s.Phase(at(monday, 570), c)
	x, _ := s.Next(at(monday-3, 1080), c)
	if p != schedule.Realtime || x != (schedule.Change{Clock: at(monday, 150), Phase: schedule.Start}) {
		t.Error(p, x)
	}
}
