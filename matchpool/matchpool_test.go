package matchpool_test

import (
	"math"
	"slices"
	"strconv"
	"testing"

	"giro/api"
	"giro/matching"
	"giro/matchpool"
	"giro/message"
)

type instruction = message.Instruction

const isin = "US0378331005"

func pool(t *testing.T, tolerance int64) *matchpool.Pool {
	t.Helper()
	p, e := matchpool.New(tolerance)
	if e != api.OK || p == nil {
		t.Fatal("New", e)
	}
	return p
}

func delivery(ref string, amount int64) instruction {
	return instruction{Ref: ref, Kind: message.DvP, Sender: "BANKA", Counterparty: "BANKB", Asset: isin, Quantity: 100, Amount: amount, TradeDay: 10, SettleDay: 12}
}

func receipt(ref string, amount int64) instruction {
	i := delivery(ref, amount)
	i.Sender, i.Counterparty, i.Side = "BANKB", "BANKA", message.Receive
	return i
}

// submit checks whether an instruction matches, and the trade's id.
func submit(t *testing.T, p *matchpool.Pool, i instruction, id string) {
	t.Helper()
	x, matched, e := p.Submit(i)
	got := ""
	if matched {
		got = x.Id()
	}
	if got != id || e != api.OK || !matched && x != (matching.Trade{}) {
		t.Errorf("Submit %s/%s: %q, %d, want %q", i.Sender, i.Ref, got, e, id)
	}
}

func refs(l []instruction) []string {
	var r []string
	for _, i := range l {
		r = append(r, i.Ref)
	}
	return r
}

func state(t *testing.T, p *matchpool.Pool, sender, ref string, want int) {
	t.Helper()
	if got := p.State(sender, ref); got != want {
		t.Error("State", sender, ref, got, "want", want)
	}
	i, ok := p.Get(sender, ref)
	if ok != (want != matchpool.Absent) || ok && (i.Sender != sender || i.Ref != ref) || !ok && !message.Equal(i, instruction{}) {
		t.Error("Get", sender, ref, i, ok)
	}
}

// P24.1
func TestSubmit(t *testing.T) {
	for _, tolerance := range []int64{-1, api.MaxAmount + 1, math.MinInt64} {
		if p, e := matchpool.New(tolerance); p != nil || e != api.ErrRange {
			t.Error("New", tolerance, e)
		}
	}
	pool(t, api.MaxAmount)
	p := pool(t, 5)
	submit(t, p, receipt("R1", 107), "")
	submit(t, p, receipt("R2", 103), "")
	submit(t, p, receipt("R3", 97), "")
	submit(t, p, delivery("D1", 100), "BANKA/D1")
	state(t, p, "BANKB", "R2", matchpool.Matched)
	state(t, p, "BANKA", "D1", matchpool.Matched)
	state(t, p, "BANKB", "R1", matchpool.Unmatched)
	held := delivery("D2", 100)
	held.Hold = true
	submit(t, p, held, "BANKA/D2")
	state(t, p, "BANKB", "R3", matchpool.Matched)
	before := p.Clone()
	bad, pay := delivery("", 0), instruction{Ref: "P", Sender: "BANKA", Counterparty: "BANKB", Asset: api.Cash, Amount: 1}
	for _, x := range []struct {
		i instruction
		e api.Errno
	}{{bad, api.ErrUnknown}, {pay, api.ErrKind}, {receipt("R1", 1), api.ErrDuplicate}, {delivery("D1", 1), api.ErrDuplicate}} {
		if tr, matched, e := p.Submit(x.i); tr != (matching.Trade{}) || matched || e != x.e {
			t.Error("Submit", x.i, e, "want", x.e)
		}
	}
	if !p.Equal(before) {
		t.Error("a refused instruction changes the pool")
	}
	submit(t, p, delivery("R1", 500), "")
	x, ok := p.Trade("BANKA/D1")
	if !ok || x.Amount != 100 || x.Refs != [2]string{"D1", "R2"} {
		t.Error("Trade", x, ok)
	}
}

// P24.1
func TestLimit(t *testing.T) {
	p := pool(t, 0)
	for n := range 2 {
		submit(t, p, receipt("R"+strconv.Itoa(n), 1), "")
		submit(t, p, delivery("D"+strconv.Itoa(n), 1), "BANKA/D"+strconv.Itoa(n))
	}
	for n := range matchpool.MaxInstructions - 4 {
		submit(t, p, delivery("X"+strconv.Itoa(n), 7), "")
	}
	if _, _, e := p.Submit(delivery("Y", 7)); e != api.ErrLimit {
		t.Error("limit", e)
	}
	if _, _, e := p.Submit(delivery("X5", 7)); e != api.ErrDuplicate {
		t.Error("duplicate first", e)
	}
	p.Complete("BANKA/D0")
	submit(t, p, receipt("Y", 7), "BANKA/X0")
}

// P24.2
func TestAmend(t *testing.T) {
	p := pool(t, 0)
	submit(t, p, delivery("D1", 100), "")
	submit(t, p, delivery("D2", 200), "")
	submit(t, p, receipt("R1", 300), "")
	amount := func(x int64) message.Amendment { return message.Amendment{HasAmount: true, Amount: x} }
	if x, matched, e := p.Amend("BANKA", "D1", amount(150)); x != (matching.Trade{}) || matched || e != api.OK {
		t.Error(x, matched, e)
	}
	if i, _ := p.Get("BANKA", "D1"); i.Amount != 150 || !slices.Equal(refs(p.Waiting()), []string{"D1", "D2", "R1"}) {
		t.Error("amended", i, refs(p.Waiting()))
	}
	before := p.Clone()
	for _, x := range []struct {
		sender, ref string
		a           message.Amendment
		e           api.Errno
	}{{"BANKB", "D1", amount(0), api.ErrNotFound}, {"BANKA", "D1", amount(0), api.ErrRange}, {"BANKA", "D1", message.Amendment{}, api.ErrFormat}, {"BANKA", "D1", message.Amendment{HasSettleDay: true, SettleDay: 3}, api.ErrDate}} {
		if tr, matched, e := p.Amend(x.sender, x.ref, x.a); tr != (matching.Trade{}) || matched || e != x.e || !p.Equal(before) {
			t.Error("Amend", x, e)
		}
	}
	if x, matched, e := p.Amend("BANKB", "R1", amount(200)); x.Id() != "BANKA/D2" || !matched || e != api.OK {
		t.Error(x, matched, e)
	}
	if tr, matched, e := p.Amend("BANKB", "R1", amount(0)); tr != (matching.Trade{}) || matched || e != api.ErrState {
		t.Error("matched", e)
	}
	if !slices.Equal(refs(p.Waiting()), []string{"D1"}) {
		t.Error(refs(p.Waiting()))
	}
}

// P24.3
func TestCancel(t *testing.T) {
	cancel := func(p *matchpool.Pool, sender, ref string, gone bool, want api.Errno) {
		t.Helper()
		if got, e := p.Cancel(sender, ref); got != gone || e != want {
			t.Error("Cancel", sender, ref, got, e)
		}
	}
	revoke := func(p *matchpool.Pool, sender, ref string, want api.Errno) {
		t.Helper()
		if e := p.Revoke(sender, ref); e != want {
			t.Error("Revoke", sender, ref, e)
		}
	}
	p := pool(t, 0)
	submit(t, p, delivery("D1", 1), "")
	revoke(p, "BANKA", "D1", api.ErrState)
	cancel(p, "BANKB", "D1", false, api.ErrNotFound)
	cancel(p, "BANKA", "D1", true, api.OK)
	cancel(p, "BANKA", "D1", false, api.ErrNotFound)
	submit(t, p, delivery("D1", 1), "")
	submit(t, p, receipt("R1", 1), "BANKA/D1")
	revoke(p, "BANKA", "D1", api.ErrState)
	revoke(p, "BANKA", "R1", api.ErrNotFound)
	cancel(p, "BANKB", "R1", false, api.OK)
	state(t, p, "BANKB", "R1", matchpool.Cancelled)
	state(t, p, "BANKA", "D1", matchpool.Matched)
	cancel(p, "BANKB", "R1", false, api.ErrState)
	revoke(p, "BANKA", "D1", api.ErrState)
	revoke(p, "BANKB", "R1", api.OK)
	state(t, p, "BANKB", "R1", matchpool.Matched)
	cancel(p, "BANKA", "D1", false, api.OK)
	cancel(p, "BANKB", "R1", true, api.OK)
	if !p.Equal(pool(t, 0)) {
		t.Error("the trade is not removed")
	}
}

// P24.4
func TestCompleteExpire(t *testing.T) {
	p := pool(t, 0)
	submit(t, p, delivery("D1", 1), "")
	submit(t, p, receipt("R1", 1), "BANKA/D1")
	for n, day := range []int{15, 14, 13, 16} {
		i := delivery("X"+strconv.Itoa(n), 1)
		i.SettleDay = day
		submit(t, p, i, "")
	}
	if l, e := p.Expire(15); !slices.Equal(refs(l), []string{"X1", "X2"}) || e != api.OK || !slices.Equal(refs(p.Waiting()), []string{"X0", "X3"}) {
		t.Error("Expire", refs(l), e)
	}
	state(t, p, "BANKA", "D1", matchpool.Matched)
	if l, e := p.Expire(math.MinInt); len(l) != 0 || e != api.OK {
		t.Error("Expire", l, e)
	}
	for _, id := range []string{"BANKB/R1", "D1", "", "BANKA/X0"} {
		if e := p.Complete(id); e != api.ErrNotFound {
			t.Error("Complete", id, e)
		}
	}
	if e := p.Complete("BANKA/D1"); e != api.OK || len(p.Trades()) != 0 {
		t.Error("Complete", e)
	}
	state(t, p, "BANKB", "R1", matchpool.Absent)
}

// P24.5
func TestLists(t *testing.T) {
	p := pool(t, 0)
	c := delivery("C1", 5)
	c.Counterparty = "BANKC"
	submit(t, p, delivery("D2", 2), "")
	submit(t, p, c, "")
	submit(t, p, receipt("R1", 1), "")
	submit(t, p, receipt("R9", 9), "")
	submit(t, p, receipt("R2", 2), "BANKA/D2")
	submit(t, p, delivery("D1", 1), "BANKA/D1")
	if !slices.Equal(refs(p.Waiting()), []string{"C1", "R9"}) || !slices.Equal(refs(p.Allegements("BANKC")), []string{"C1"}) || !slices.Equal(refs(p.Allegements("BANKA")), []string{"R9"}) || len(p.Allegements("x")) != 0 {
		t.Error("lists", refs(p.Waiting()))
	}
	l := p.Trades()
	if len(l) != 2 || l[0].Id() != "BANKA/D2" || l[1].Id() != "BANKA/D1" {
		t.Error("Trades", l)
	}
	if x, ok := p.Trade("BANKB/R1"); ok || x != (matching.Trade{}) {
		t.Error("Trade", x)
	}
	state(t, p, "x", "y", matchpool.Absent)
}

// P24.6
func TestCloneEqual(t *testing.T) {
	build := func() *matchpool.Pool {
		p := pool(t, 3)
		i := delivery("D1", 100)
		i.Links = []message.Link{{Type: 0, Ref: "X"}, {Type: 1, Ref: "Y"}}
		p.Submit(i)
		p.Submit(receipt("R1", 100))
		p.Submit(delivery("D2", 200))
		p.Submit(delivery("D3", 300))
		return p
	}
	p := build()
	for name, change := range map[string]func(p *matchpool.Pool){
		"submit": func(p *matchpool.Pool) { p.Submit(delivery("D4", 1)) }, "amend": func(p *matchpool.Pool) { p.Amend("BANKA", "D2", message.Amendment{HasPriority: true, Priority: 1}) },
		"ask": func(p *matchpool.Pool) { p.Cancel("BANKA", "D1") }, "cancel": func(p *matchpool.Pool) { p.Cancel("BANKA", "D2") }, "complete": func(p *matchpool.Pool) { p.Complete("BANKA/D1") },
		"order":   func(p *matchpool.Pool) { p.Cancel("BANKA", "D2"); p.Submit(delivery("D2", 200)) },
		"expire":  func(p *matchpool.Pool) { p.Expire(13) },
		"matched": func(p *matchpool.Pool) { p.Submit(receipt("R2", 200)) },
		"links": func(p *matchpool.Pool) {
			p.Complete("BANKA/D1")
			i := delivery("D1", 100)
			i.Links = []message.Link{{Type: 1, Ref: "Y"}, {Type: 0, Ref: "X"}}
			p.Submit(i)
			p.Submit(receipt("R1", 100))
		},
	} {
		c := p.Clone()
		if !c.Equal(p) || !p.Equal(build()) {
			t.Fatal("clone is not equal")
		}
		change(c)
		if c.Equal(p) || p.Equal(c) || !p.Equal(build()) {
			t.Error(name)
		}
	}
	if pool(t, 3).Equal(pool(t, 4)) {
		t.Error("another tolerance is equal")
	}
	var none *matchpool.Pool
	_, _, e1 := none.Submit(instruction{})
	_, _, e2 := none.Amend("", "", message.Amendment{})
	_, e3 := none.Cancel("", "")
	_, e4 := none.Expire(0)
	for _, e := range []api.Errno{e1, e2, e3, e4, none.Revoke("", ""), none.Complete("")} {
		if e != api.ErrArgument {
			t.Error("nil", e)
		}
	}
	_, ok := none.Trade("")
	if ok || len(none.Waiting()) != 0 || len(none.Allegements("")) != 0 || len(none.Trades()) != 0 || none.Clone() != nil || !none.Equal(nil) || none.Equal(p) || p.Equal(nil) {
		t.Error("nil pool")
	}
	state(t, none, "", "", matchpool.Absent)
}

// P24.7
func TestInvariants(t *testing.T) {
	p := pool(t, 2)
	seed := uint64(3)
	next := func(n uint64) int { seed = seed*6364136223846793005 + 1442695040888963407; return int(seed >> 33 % n) }
	for n := range 400 {
		ref := strconv.Itoa(next(60))
		switch next(5) {
		case 0, 1:
			p.Submit(delivery(ref, int64(100+next(6))))
		case 2:
			p.Submit(receipt(ref, int64(100+next(6))))
		case 3:
			p.Amend("BANKA", ref, message.Amendment{HasAmount: true, Amount: int64(100 + next(9))})
		case 4:
			p.Cancel([]string{"BANKA", "BANKB"}[next(2)], ref)
		}
		waiting := p.Waiting()
		for a := range waiting {
			for b := range waiting {
				if _, e := matching.Match(waiting[a], waiting[b], 2); e == api.OK {
					t.Fatal("step", n, "two unmatched instructions match")
				}
			}
		}
	}
	x, y := pool(t, 5), pool(t, 5)
	submit(t, x, delivery("D", 7), "")
	submit(t, x, receipt("R", 9), "BANKA/D")
	submit(t, y, receipt("R", 9), "")
	submit(t, y, delivery("D", 7), "BANKA/D")
	if !x.Equal(y) {
		t.Error("the order of submission matters")
	}
	i := delivery("L", 50)
	i.Links = []message.Link{{Type: 0, Ref: "X"}}
	submit(t, x, i, "")
	i.Links[0].Ref = "?"
	got, _ := x.Get("BANKA", "L")
	got.Links[0].Ref = "?"
	x.Waiting()[0].Links[0].Ref = "?"
	if got, _ := x.Get("BANKA", "L"); got.Links[0].Ref != "X" {
		t.Error("memory is shared")
	}
}

// Example 1
func TestExample(t *testing.T) {
	p := pool(t, 2)
	submit(t, p, receipt("R1", 2500002), "")
	submit(t, p, delivery("D1", 2500000), "BANKA/D1")
	x, _ := p.Trade("BANKA/D1")
	first, _ := p.Cancel("BANKA", "D1")
	second, _ := p.Cancel("BANKB", "R1")
	if x.Amount != 2500000 || first || !second || !p.Equal(pool(t, 2)) {
		t.Error(x, first, second)
	}
}
