package replay_test

import (
	"slices"
	"strconv"
	"testing"

	"giro/api"
	"giro/calendar"
	"giro/engine"
	"giro/history"
	"giro/message"
	"giro/refdata"
	"giro/replay"
	"giro/schedule"
)

type command = engine.Command

func week(t *testing.T) *calendar.Calendar {
	t.Helper()
	c, e := calendar.New([]int{3}, nil)
	if e != api.OK {
		t.Fatal(e)
	}
	return c
}

func at(day, minute int) api.Clock { return api.Clock{Day: day, Minute: minute} }

func advance(day, minute int) command { return command{Kind: engine.Advance, Clock: at(day, minute)} }

func cash(owner string) api.Account { return api.Account{Owner: owner, Asset: api.Cash} }

// script is a list of commands that are all accepted.
func script() []command {
	l := []command{advance(0, 420)}
	for _, m := range []string{"BANKA", "BANKB", "ISSUER"} {
		l = append(l, command{Kind: engine.SetMember, Member: refdata.Member{Code: m, Active: true}})
	}
	l = append(l, command{Kind: engine.SetSecurity, Security: refdata.Security{ISIN: "US0378331005", Issuer: "ISSUER", Lot: 1, Active: true}})
	for k := range 60 {
		switch k % 5 {
		case 0:
			l = append(l, command{Kind: engine.Issue, From: "CB", To: "BANKA", Asset: api.Cash, Amount: int64(10 + k)})
		case 4:
			l = append(l, advance(k/20, 421+k))
		default:
			i := message.Instruction{Ref: "P" + strconv.Itoa(k), Kind: message.Payment, Sender: "BANKA", Counterparty: "BANKB", Asset: api.Cash, Amount: int64(3 + k/2), SettleDay: k / 20}
			l = append(l, command{Kind: engine.Submit, Request: message.Request{Sender: "BANKA", Ref: i.Ref, Instruction: i}})
		}
	}
	return append(l, advance(3, 0), advance(3, 0), advance(4, 100))
}

// states returns the states after 0, 1, 2 and so on commands.
func states(t *testing.T, l []command) []*engine.Engine {
	t.Helper()
	e, _ := engine.New(week(t), schedule.Default())
	all := []*engine.Engine{e.Clone()}
	for n, c := range l {
		if _, code := e.Step(c); code != api.OK {
			t.Fatal("command", n, code)
		}
		all = append(all, e.Clone())
	}
	return all
}

func must(t *testing.T, l []command) *replay.Replay {
	t.Helper()
	r, n, code := replay.New(week(t), schedule.Default(), l)
	if code != api.OK || r == nil || n != 0 {
		t.Fatal("New", n, code)
	}
	return r
}

// P53.1
func TestNew(t *testing.T) {
	for n, x := range []struct {
		cal   *calendar.Calendar
		s     schedule.Schedule
		l     []command
		index int
		code  api.Errno
	}{
		{nil, schedule.Schedule{}, nil, 0, api.ErrArgument}, {week(t), schedule.Schedule{}, make([]command, engine.MaxCommands+1), 0, api.ErrRange}, {week(t), schedule.Default(), make([]command, engine.MaxCommands+1), 0, api.ErrLimit},
		{week(t), schedule.Default(), append(script(), command{Kind: 99}), len(script()), api.ErrKind}, {week(t), schedule.Default(), []command{{Kind: engine.Withdraw, From: "X"}, {Kind: 99}}, 0, api.ErrNotFound},
	} {
		if r, index, code := replay.New(x.cal, x.s, x.l); r != nil || index != x.index || code != x.code {
			t.Error("New", n, index, code)
		}
	}
	if must(t, nil).Len() != 0 || must(t, script()).Len() != len(script()) {
		t.Error("Len")
	}
	last := states(t, script())[len(script())]
	r, code := replay.Of(week(t), schedule.Default(), last)
	if code != api.OK || r.Len() != len(script()) || r.Difference(must(t, script())) != -1 {
		t.Error("Of", code)
	}
	if r, code := replay.Of(nil, schedule.Schedule{}, nil); r != nil || code != api.ErrArgument {
		t.Error("Of", code)
	}
	if r, code := replay.Of(nil, schedule.Default(), last); r != nil || code != api.ErrArgument {
		t.Error("Of", code)
	}
	other := schedule.Default()
	other.Begins[0]++
	if r, code := replay.Of(week(t), other, last); r != nil || code != api.ErrMismatch {
		t.Error("another schedule", code)
	}
}

// P53.2 P53.3 P53.7
func TestAt(t *testing.T) {
	l := script()
	want := states(t, l)
	r := must(t, l)
	for n := range want {
		e, code := r.At(n)
		c, code2 := r.Time(n)
		if code != api.OK || !e.Equal(want[n]) || !e.Accounts().Equal(want[n].Accounts()) || code2 != api.OK || c != want[n].Clock() {
			t.Error("At", n, code)
		}
		e.Step(advance(9, 0))
		if again, _ := r.At(n); !again.Equal(want[n]) {
			t.Fatal("the replay has changed")
		}
	}
	for _, n := range []int{-1, len(l) + 1} {
		e, code := r.At(n)
		c, code2 := r.Time(n)
		if e != nil || code != api.ErrRange || c != (api.Clock{}) || code2 != api.ErrRange {
			t.Error("At", n, code, code2)
		}
	}
	for day := range 5 {
		for minute := 0; minute < 1440; minute += 37 {
			c := at(day, minute)
			index := 0
			for n, e := range want {
				if x := e.Clock(); x.Day < day || x.Day == day && x.Minute <= minute {
					index = n
				}
			}
			if n, code := r.Find(c); n != index || code != api.OK {
				t.Error("Find", c, n, code)
			}
			e, code := r.AtMinute(c)
			commands := index
			if want[index].Clock() != c {
				commands++
			}
			if code != api.OK || e.Clock() != c || e.Commands() != commands {
				t.Error("AtMinute", c, code)
			}
		}
	}
	for _, c := range []api.Clock{at(-1, 0), at(73049, 0), at(0, -1), at(0, 1440)} {
		n, code := r.Find(c)
		e, code2 := r.AtMinute(c)
		if n != 0 || code != api.ErrRange || e != nil || code2 != api.ErrRange {
			t.Error("time", c, code, code2)
		}
	}
	if e, code := r.AtMinute(at(1000, 0)); e != nil || code != api.ErrLimit {
		t.Error("far away", code)
	}
}

// P53.3 T19: the state at a time does not depend on how later commands divide the time.
func TestDividedTime(t *testing.T) {
	l := script()
	cut := len(l) - 3
	once := must(t, append(slices.Clone(l[:cut]), advance(4, 100)))
	steps := must(t, append(slices.Clone(l[:cut]), advance(2, 600), advance(2, 1080), advance(3, 700), advance(4, 100)))
	for _, c := range []api.Clock{at(2, 1000), at(3, 0), at(3, 1000), at(4, 100)} {
		a, _ := once.AtMinute(c)
		b, _ := steps.AtMinute(c)
		if !a.Accounts().Equal(b.Accounts()) || !a.History().Equal(b.History()) || !slices.Equal(a.Orders(), b.Orders()) || !a.Limits().Equal(b.Limits()) {
			t.Error("state at", c)
		}
	}
}

// P53.4
func TestEvents(t *testing.T) {
	l := script()
	want := states(t, l)
	r := must(t, l)
	last := want[len(l)]
	encode := func(l []engine.Event) string {
		s := ""
		for _, x := range l {
			b, _ := engine.EncodeEvent(x)
			s += string(b)
		}
		return s
	}
	for from := 0; from <= len(l); from += 7 {
		for to := from; to <= len(l); to += 5 {
			var events []engine.Event
			for n := from; n < to; n++ {
				events = append(events, last.Events(n)...)
			}
			got, code := r.Events(from, to)
			if encode(got) != encode(events) || code != api.OK {
				t.Error("Events", from, to, code)
			}
			sums := map[api.Account]int64{}
			for _, x := range got {
				for k := range x.Postings {
					sums[x.Postings[k].Account] += x.Postings[k].Delta
					x.Postings[k].Delta = 99
				}
			}
			changes, code := r.Between(from, to)
			for k, p := range changes {
				if p.Delta == 0 || p.Delta != sums[p.Account] || p.Delta != want[to].Accounts().Balance(p.Account)-want[from].Accounts().Balance(p.Account) || k > 0 && history.Compare(changes[k-1].Account, p.Account) >= 0 {
					t.Error("Between", from, to, p)
				}
				delete(sums, p.Account)
			}
			for k, x := range sums {
				if x != 0 {
					t.Error("Between misses", k, x)
				}
			}
			if code != api.OK {
				t.Error(code)
			}
		}
	}
	for _, x := range [][2]int{{-1, 0}, {3, 2}, {0, len(l) + 1}} {
		a, e1 := r.Events(x[0], x[1])
		b, e2 := r.Between(x[0], x[1])
		if len(a)+len(b) != 0 || e1 != api.ErrRange || e2 != api.ErrRange {
			t.Error("range", x, e1, e2)
		}
	}
}

// P53.5
func TestFirstBelow(t *testing.T) {
	l := script()
	want := states(t, l)
	r := must(t, l)
	for _, owner := range []string{"BANKA", "BANKB", "CB", "NOBODY"} {
		for limit := int64(-3); limit < 40; limit += 3 {
			index, found := 0, false
			for n := len(l); n >= 0; n-- {
				if want[n].Accounts().Balance(cash(owner)) < limit {
					index, found = n, true
				}
			}
			if n, ok := r.FirstBelow(cash(owner), limit); n != index || ok != found {
				t.Error("FirstBelow", owner, limit, n, ok)
			}
		}
	}
	issued := api.Account{Owner: "CB", Kind: api.Issued, Asset: api.Cash}
	if n, ok := r.FirstBelow(issued, 0); n != 6 || !ok {
		t.Error("issued", n, ok)
	}
}

// P53.5 P53.6
func TestForkDifference(t *testing.T) {
	l := script()
	r := must(t, l)
	before, _ := r.At(len(l))
	other := []command{{Kind: engine.Issue, From: "CB", To: "BANKB", Asset: api.Cash, Amount: 7}, advance(0, 480)}
	for _, n := range []int{5, 6, 31, 32, 33, 40} {
		kept := slices.Clone(l[:n])
		more := other
		if c, _ := r.Time(n); c.Day > 0 {
			more = []command{advance(c.Day, c.Minute+1)}
		}
		f, index, code := r.Fork(n, more)
		if code != api.OK || index != 0 || f.Len() != n+len(more) {
			t.Fatal("Fork", n, index, code)
		}
		want := must(t, append(kept, more...))
		a, _ := f.At(f.Len())
		b, _ := want.At(want.Len())
		if !a.Equal(b) || f.Difference(want) != -1 || f.Difference(r) != n || r.Difference(f) != n {
			t.Error("Fork", n, f.Difference(r))
		}
	}
	if after, _ := r.At(len(l)); !after.Equal(before) || r.Len() != len(l) {
		t.Error("the replay has changed")
	}
	short := must(t, l[:20])
	var none *replay.Replay
	if r.Difference(short) != 20 || short.Difference(r) != 20 || r.Difference(r) != -1 || r.Difference(nil) != 0 || none.Difference(r) != 0 || none.Difference(nil) != -1 || must(t, nil).Difference(nil) != -1 {
		t.Error("Difference")
	}
	for n, x := range []struct {
		n     int
		l     []command
		index int
		code  api.Errno
	}{{-1, make([]command, engine.MaxCommands+1), 0, api.ErrRange}, {len(l) + 1, nil, 0, api.ErrRange}, {5, make([]command, engine.MaxCommands-4), 0, api.ErrLimit}, {5, append(slices.Clone(other), command{Kind: 99}), 7, api.ErrKind}} {
		if f, index, code := r.Fork(x.n, x.l); f != nil || index != x.index || code != x.code {
			t.Error("error", n, index, code)
		}
	}
	if f, _, code := r.Fork(len(l), nil); code != api.OK || f.Difference(r) != -1 {
		t.Error("Fork of everything", code)
	}
}

// P53.7
func TestNil(t *testing.T) {
	var r *replay.Replay
	a, e1 := r.At(0)
	b, e2 := r.Time(0)
	c, e3 := r.Find(at(0, 0))
	d, e4 := r.AtMinute(at(0, 0))
	e, e5 := r.Events(0, 0)
	f, e6 := r.Between(0, 0)
	g, h, e7 := r.Fork(0, nil)
	n, ok := r.FirstBelow(cash("A"), 5)
	if r.Len() != 0 || a != nil || b != (api.Clock{}) || c != 0 || d != nil || len(e) != 0 || len(f) != 0 || g != nil || h != 0 || n != 0 || ok {
		t.Error("nil replay")
	}
	for _, code := range []api.Errno{e1, e2, e3, e4, e5, e6, e7} {
		if code != api.ErrArgument {
			t.Error("nil", code)
		}
	}
}

// Example 1
func TestExample(t *testing.T) {
	r := must(t, []command{advance(0, 420), {Kind: engine.SetMember, Member: refdata.Member{Code: "BANKA", Active: true}}, advance(0, 600)})
	for n, want := range []api.Clock{at(0, 0), at(0, 420), at(0, 420), at(0, 600)} {
		if c, _ := r.Time(n); c != want {
			t.Error("Time", n, c)
		}
	}
	n, _ := r.Find(at(0, 500))
	e, _ := r.AtMinute(at(0, 500))
	if n != 2 || e.Commands() != 3 || e.Clock() != at(0, 500) {
		t.Error(n, e.Commands())
	}
}

// P53.1 P53.3 P53.6: as many commands as possible, and the last minute of a day.
func TestMost(t *testing.T) {
	l := slices.Repeat([]command{advance(0, 0)}, engine.MaxCommands)
	r, n, code := replay.New(week(t), schedule.Default(), l)
	if r.Len() != len(l) || code != api.OK {
		t.Fatal("New", n, code)
	}
	if r, n, code := replay.New(week(t), schedule.Default(), append(l, command{Kind: -1})); r != nil || n != 0 || code != api.ErrLimit {
		t.Error("one more", n, code)
	}
	if n, code := r.Find(at(0, 1439)); n != len(l) || code != api.OK {
		t.Error("Find", n, code)
	}
	if _, code := r.Find(at(0, 1440)); code != api.ErrRange {
		t.Error("Find", code)
	}
	half := len(l) / 2
	if f, _, code := r.Fork(half, l[half:]); f.Len() != len(l) || code != api.OK {
		t.Error("Fork", code)
	}
	if f, n, code := r.Fork(half+1, l[half:]); f != nil || n != 0 || code != api.ErrLimit {
		t.Error("Fork", n, code)
	}
}

// P53.5: the very first command may change the balance.
func TestFirstCommand(t *testing.T) {
	r := must(t, []command{{Kind: engine.Issue, From: "CB", To: "BANKA", Asset: api.Cash, Amount: 5}})
	if n, found := r.FirstBelow(api.Account{Owner: "CB", Kind: api.Issued, Asset: api.Cash}, 0); n != 1 || !found {
		t.Error("FirstBelow", n, found)
	}
	if n, found := r.FirstBelow(cash("BANKA"), 0); n != 0 || found {
		t.Error("FirstBelow", n, found)
	}
}
