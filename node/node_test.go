package node_test

import (
	"slices"
	"strconv"
	"strings"
	"testing"

	"giro/api"
	"giro/calendar"
	"giro/checkpoint"
	"giro/disk"
	"giro/engine"
	"giro/message"
	"giro/node"
	"giro/record"
	"giro/refdata"
	"giro/schedule"
	"giro/sha256"
	"giro/wal"
)

type command = engine.Command

func everyDay(t *testing.T) *calendar.Calendar {
	t.Helper()
	c, e := calendar.New(nil, nil)
	if e != api.OK {
		t.Fatal(e)
	}
	return c
}

func open(t *testing.T, d *disk.Disk) *node.Node {
	t.Helper()
	n, e := node.Open(d, everyDay(t), schedule.Default())
	if e != api.OK || n == nil {
		t.Fatal("Open", e)
	}
	return n
}

func advance(minute int) command {
	return command{Kind: engine.Advance, Clock: api.Clock{Minute: minute}}
}

func issue(to string, x int64) command {
	return command{Kind: engine.Issue, From: "CB", To: to, Asset: api.Cash, Amount: x}
}

// script is a list of commands of which some are refused.
func script() []command {
	l := []command{advance(420)}
	for _, m := range []string{"BANKA", "BANKB"} {
		l = append(l, command{Kind: engine.SetMember, Member: refdata.Member{Code: m, Active: true}})
	}
	l = append(l, issue("BANKA", 100), issue("BANKA", -1))
	for k := range 8 {
		i := message.Instruction{Ref: "P" + strconv.Itoa(k), Kind: message.Payment, Sender: "BANKA", Counterparty: "BANKB", Asset: api.Cash, Amount: int64(10 + k)}
		l = append(l, command{Kind: engine.Submit, Request: message.Request{Sender: "BANKA", Ref: i.Ref, Instruction: i}})
	}
	return append(l, advance(5), advance(1439))
}

// accepted returns the states after 0, 1, 2 and so on accepted commands, and those commands.
func accepted(t *testing.T) ([]*engine.Engine, []command) {
	t.Helper()
	e, _ := engine.New(everyDay(t), schedule.Default())
	states := []*engine.Engine{e.Clone()}
	var l []command
	for _, c := range script() {
		if _, code := e.Step(c); code == api.OK {
			states = append(states, e.Clone())
			l = append(l, c)
		}
	}
	return states, l
}

func same(a, b []engine.Event) bool {
	return slices.EqualFunc(a, b, func(x, y engine.Event) bool {
		p, _ := engine.EncodeEvent(x)
		q, _ := engine.EncodeEvent(y)
		return string(p) == string(q)
	})
}

// P52.1
func TestOpenErrors(t *testing.T) {
	down := disk.New()
	down.Crash()
	failing := disk.New()
	failing.SetBudget(0)
	for n, x := range []struct {
		d   *disk.Disk
		cal *calendar.Calendar
		s   schedule.Schedule
		e   api.Errno
	}{{nil, nil, schedule.Schedule{}, api.ErrArgument}, {down, nil, schedule.Schedule{}, api.ErrArgument}, {down, everyDay(t), schedule.Schedule{}, api.ErrRange}, {down, everyDay(t), schedule.Default(), api.ErrCrash}, {failing, everyDay(t), schedule.Default(), api.ErrCrash}} {
		if got, e := node.Open(x.d, x.cal, x.s); got != nil || e != x.e {
			t.Error("Open", n, e)
		}
	}
	// A log with something that is not a command, or one that is refused.
	bad := disk.New()
	l, _, _ := wal.Open(bad, node.LogName, node.Segment)
	l.Append([]byte{1})
	l.Sync()
	if got, e := node.Open(bad, everyDay(t), schedule.Default()); got != nil || e != api.ErrTruncated {
		t.Error("not a command", e)
	}
	refused := disk.New()
	l, _, _ = wal.Open(refused, node.LogName, node.Segment)
	b, _ := engine.EncodeCommand(issue("BANKA", -1))
	l.Append(b)
	if got, e := node.Open(refused, everyDay(t), schedule.Default()); got != nil || e != api.ErrRange {
		t.Error("refused command", e)
	}
	// A snapshot that is no snapshot, and one that the log does not reach.
	wrong := disk.New()
	s, _ := checkpoint.Open(wrong, node.StateName)
	s.Save(1, []byte{9})
	if got, e := node.Open(wrong, everyDay(t), schedule.Default()); got != nil || e != api.ErrTruncated {
		t.Error("no snapshot", e)
	}
	states, _ := accepted(t)
	data, _ := states[2].Snapshot()
	short := disk.New()
	s, _ = checkpoint.Open(short, node.StateName)
	s.Save(2, data)
	if got, e := node.Open(short, everyDay(t), schedule.Default()); got != nil || e != api.ErrSequence {
		t.Error("log that ends too early", e)
	}
	late := disk.New()
	late.Create("log-0000000003")
	if got, e := node.Open(late, everyDay(t), schedule.Default()); got != nil || e != api.ErrSequence {
		t.Error("log that begins too late", e)
	}
}

// P52.2 P52.4
func TestDo(t *testing.T) {
	d := disk.New()
	n := open(t, d)
	e, _ := engine.New(everyDay(t), schedule.Default())
	for k, c := range script() {
		before := d.Clone()
		l, code := n.Do(c)
		want, wantCode := e.Step(c)
		if !same(l, want) || code != wantCode {
			t.Error("command", k, code, wantCode)
		}
		if code != api.OK && !d.Equal(before) {
			t.Error("a refused command changes the disk")
		}
		if n.Commands() != e.Commands() || n.Hash() != e.Hash() || !n.Engine().Equal(e) || n.Failed() != api.OK || n.First() != 0 || len(n.Snapshots()) != 0 {
			t.Error("state after", k)
		}
	}
	n.Engine().Step(advance(1439))
	if n.Hash() != e.Hash() {
		t.Error("memory is shared")
	}
	b, _ := d.Read("log-0000000000")
	payloads, _, _ := record.Scan(b)
	first, _ := engine.EncodeCommand(advance(420))
	if string(payloads[0]) != "\x00\x00\x00\x00\x00\x00\x00\x00"+string(first) || d.Pending("log-0000000000") != 0 {
		t.Error("the log", payloads[0])
	}
}

// P52.2
func TestGroup(t *testing.T) {
	d := disk.New()
	n := open(t, d)
	d.SetBudget(12)
	results, code := n.Group(script())
	if code != api.ErrCrash || len(results) != 0 || n.Commands() != 0 || n.Failed() != api.ErrCrash {
		t.Error("crash", len(results), code)
	}
	for _, f := range []func() api.Errno{func() api.Errno { _, e := n.Do(advance(5)); return e }, func() api.Errno { _, e := n.Group(make([]command, node.MaxGroup+1)); return e }, n.Checkpoint} {
		if e := f(); e != api.ErrCrash {
			t.Error("after the failure", e)
		}
	}
	if n.Engine().Commands() != 0 || len(n.Snapshots()) != 0 {
		t.Error("a node that has failed")
	}
	d.Restart(nil)
	n = open(t, d)
	_, commands := accepted(t)
	budget := len(commands) - n.Commands()
	// One operation for each command and one for the sync.
	d.SetBudget(budget + 1)
	results, code = n.Group(script()[len(script())-1-budget:])
	_ = results
	if code != api.OK {
		t.Error("Group", code)
	}
	m := open(t, disk.New())
	results, code = m.Group(script())
	e, _ := engine.New(everyDay(t), schedule.Default())
	for k, c := range script() {
		l, want := e.Step(c)
		if !same(results[k].Events, l) || results[k].Error != want {
			t.Error("result", k)
		}
	}
	if code != api.OK || m.Hash() != e.Hash() {
		t.Error("Group", code)
	}
	if l, code := m.Group(make([]command, node.MaxGroup+1)); len(l) != 0 || code != api.ErrLimit || m.Failed() != api.OK {
		t.Error("limit", code)
	}
	quiet := disk.New()
	q := open(t, quiet)
	quiet.SetBudget(0)
	if l, code := q.Group(nil); len(l) != 0 || code != api.OK {
		t.Error("nothing", code)
	}
	if l, code := q.Group([]command{issue("BANKA", 0), {Kind: 99}}); len(l) != 2 || code != api.OK || l[0].Error != api.ErrRange || l[1].Error != api.ErrKind {
		t.Error("refused", l, code)
	}
}

// P52.2: a command that is too long for the log.
func TestLongCommand(t *testing.T) {
	d := disk.New()
	n := open(t, d)
	long := command{Kind: engine.SetBilateral, From: strings.Repeat("x", wal.MaxPayload), To: "y", Amount: 5}
	results, code := n.Group([]command{advance(420), long, issue("BANKA", 5)})
	if code != api.OK || results[1].Error != api.ErrLong || len(results[1].Events) != 0 || results[2].Error != api.OK || n.Commands() != 2 || len(n.Engine().Limits().Limits()) != 0 {
		t.Error(results, code)
	}
	long.To = ""
	if _, code := n.Do(long); code != api.ErrUnknown {
		t.Error("the engine's error comes first", code)
	}
	if again := open(t, d); again.Hash() != n.Hash() {
		t.Error("reopened")
	}
}

// P52.3
func TestCheckpoint(t *testing.T) {
	d := disk.New()
	n := open(t, d)
	long := func(k int) command {
		return command{Kind: engine.SetBilateral, From: strings.Repeat("x", 900), To: "y" + strconv.Itoa(k%5), Amount: int64(k)}
	}
	for k := range 30 {
		if k == 0 {
			n.Do(advance(420))
		}
		n.Do(long(k))
		if k%10 == 9 {
			if code := n.Checkpoint(); code != api.OK {
				t.Error("Checkpoint", code)
			}
		}
		if k == 9 {
			// With one snapshot, the log is not truncated, and nothing is saved twice.
			before := d.Clone()
			if code := n.Checkpoint(); code != api.OK || !d.Equal(before) || n.First() != 0 || !slices.Equal(n.Snapshots(), []int{11}) {
				t.Error("first snapshot", code, n.First(), n.Snapshots())
			}
		}
	}
	if !slices.Equal(n.Snapshots(), []int{21, 31}) || n.First() < 11 || n.First() > 21 {
		t.Error("Snapshots", n.Snapshots(), n.First())
	}
	before := d.Clone()
	if code := n.Checkpoint(); code != api.OK || !d.Equal(before) {
		t.Error("nothing new", code)
	}
	n.Do(long(77))
	again := open(t, d)
	if again.Hash() != n.Hash() || again.Commands() != 32 || again.First() != n.First() {
		t.Error("reopened", again.Commands())
	}
	// The newest snapshot is damaged.
	name, _ := checkpoint.FileName(node.StateName, 31)
	d.WriteAt(name, 500, []byte{'?'})
	if damaged := open(t, d); damaged.Hash() != n.Hash() || !slices.Equal(damaged.Snapshots(), []int{21}) {
		t.Error("damaged snapshot", damaged.Commands())
	}
	d.SetBudget(2)
	n.Do(long(78))
	if code := n.Checkpoint(); code != api.ErrCrash || n.Failed() != api.ErrCrash || len(n.Snapshots()) != 0 {
		t.Error("crash", code, n.Failed())
	}
}

// P52.3: a snapshot that is too long.
func TestLongSnapshot(t *testing.T) {
	d := disk.New()
	n := open(t, d)
	n.Do(advance(420))
	for k := range 17 {
		c := command{Kind: engine.SetBilateral, From: strings.Repeat("x", 60000), To: "y" + strconv.Itoa(k%3), Amount: int64(k)}
		if _, code := n.Do(c); code != api.OK {
			t.Fatal(code)
		}
	}
	before := d.Clone()
	if code := n.Checkpoint(); code != api.ErrLong || !d.Equal(before) || n.Failed() != api.OK {
		t.Error("Checkpoint", code, n.Failed())
	}
	if again := open(t, d); again.Hash() != n.Hash() {
		t.Error("reopened")
	}
}

// P52.6 T18 T25: crashes at every operation, also while the node is opened.
func TestCrashes(t *testing.T) {
	states, _ := accepted(t)
	for budget := 0; budget < 60; budget++ {
		for even := range 3 {
			d := disk.New()
			d.SetBudget(budget)
			acknowledged := 0
			if n, code := node.Open(d, everyDay(t), schedule.Default()); code == api.OK {
				for k, c := range script() {
					if _, code := n.Do(c); code == api.OK {
						acknowledged++
					} else if n.Failed() != api.OK {
						break
					}
					if k%4 == 3 && n.Checkpoint() != api.OK {
						break
					}
				}
			}
			finished := !d.Down()
			d.Crash()
			d.Restart([]uint8{uint8(2 * even), uint8(even), 30, uint8(2 * even), 1, 3})
			for second := range 4 {
				c := d.Clone()
				c.SetBudget(second)
				node.Open(c, everyDay(t), schedule.Default())
				c.Crash()
				c.Restart([]uint8{0, 0, uint8(second)})
				n := open(t, c)
				if n.Commands() < acknowledged || n.Commands() >= len(states) || n.Hash() != states[n.Commands()].Hash() {
					t.Fatal("budget", budget, even, second, n.Commands(), acknowledged)
				}
			}
			if finished {
				return
			}
		}
	}
	t.Error("the script is never finished")
}

// P52.5
func TestNil(t *testing.T) {
	var n *node.Node
	l, e1 := n.Do(command{Kind: 99})
	r, e2 := n.Group(make([]command, node.MaxGroup+1))
	if len(l) != 0 || len(r) != 0 || e1 != api.ErrArgument || e2 != api.ErrArgument || n.Checkpoint() != api.ErrArgument || n.Failed() != api.ErrArgument || n.Engine() != nil || n.Commands() != 0 || n.Hash() != (sha256.Digest{}) || len(n.Snapshots()) != 0 || n.First() != 0 {
		t.Error("nil node")
	}
}

// Example 1
func TestExample(t *testing.T) {
	d := disk.New()
	n := open(t, d)
	n.Do(advance(420))
	b, _ := d.Read("log-0000000000")
	payloads, _, _ := record.Scan(b)
	if !slices.Equal(d.List(), []string{"log-0000000000"}) || len(payloads) != 1 {
		t.Error(d.List())
	}
	n.Checkpoint()
	if !slices.Equal(d.List(), []string{"log-0000000000", "state-0000000001.ckpt"}) {
		t.Error(d.List())
	}
	d.Crash()
	d.Restart(nil)
	if open(t, d).Commands() != 1 {
		t.Error("lost")
	}
}

// P52.2: the longest group and the longest command.
func TestLongest(t *testing.T) {
	d := disk.New()
	n := open(t, d)
	l := slices.Repeat([]command{advance(420)}, node.MaxGroup)
	results, code := n.Group(l)
	if len(results) != node.MaxGroup || code != api.OK || n.Commands() != node.MaxGroup {
		t.Error("group", len(results), code)
	}
	if results, code := n.Group(append(l, advance(420))); len(results) != 0 || code != api.ErrLimit || n.Commands() != node.MaxGroup {
		t.Error("group that is too long", code)
	}
	c := command{Kind: engine.SetBilateral, From: "BANKA", To: "BANKB", Amount: 7}
	short, _ := engine.EncodeCommand(c)
	// The length of a long string takes two bytes more.
	c.From += strings.Repeat("A", wal.MaxPayload-len(short)-2)
	if b, _ := engine.EncodeCommand(c); len(b) != wal.MaxPayload {
		t.Fatal("length", len(b), wal.MaxPayload)
	}
	if _, code := n.Do(c); code != api.OK || n.Commands() != node.MaxGroup+1 || open(t, d).Hash() != n.Hash() {
		t.Error("longest command", code, n.Commands())
	}
	c.From += "A"
	if _, code := n.Do(c); code != api.ErrLong || n.Commands() != node.MaxGroup+1 || open(t, d).Hash() != n.Hash() {
		t.Error("command that is too long", code, n.Commands())
	}
}
