package limit_test

import (
	"math"
	"slices"
	"strconv"
	"testing"

	"giro/api"
	"giro/limit"
)

type flow = limit.Flow

const most = int64(api.MaxAmount)

func want(t *testing.T, what string, got, e api.Errno) {
	t.Helper()
	if got != e {
		t.Errorf("%s: error %d, want %d", what, got, e)
	}
}

// record checks that Check and Record agree, and that neither changes anything where they refuse.
func record(t *testing.T, x *limit.Table, e api.Errno, l ...flow) {
	t.Helper()
	before := x.Clone()
	want(t, "Check", x.Check(l), e)
	if !x.Equal(before) {
		t.Error("Check changes the table")
	}
	want(t, "Record", x.Record(l), e)
	if e != api.OK && !x.Equal(before) {
		t.Error("a refused flow changes the table")
	}
}

func net(t *testing.T, x *limit.Table, from, to string, amount int64) {
	t.Helper()
	if x.Net(from, to) != amount || x.Net(to, from) != -amount {
		t.Error("Net", from, to, x.Net(from, to), "want", amount)
	}
}

// P16.1
func TestLimits(t *testing.T) {
	x := limit.New()
	if len(x.Limits()) != 0 {
		t.Error("new table")
	}
	for _, y := range []struct {
		from, to string
		amount   int64
		e        api.Errno
	}{
		{"", "A", most + 1, api.ErrUnknown}, {"A", "", -1, api.ErrUnknown}, {"A", "A", most + 1, api.ErrDuplicate}, {"A", "B", most + 1, api.ErrRange},
		{"B", "A", 5, api.OK}, {"A", "C", most, api.OK}, {"A", "B", 0, api.OK}, {"A", "B", 7, api.OK}, {"Z", "A", -1, api.OK}, {"B", "A", math.MinInt64, api.OK},
	} {
		want(t, "SetBilateral", x.SetBilateral(y.from, y.to, y.amount), y.e)
	}
	for _, y := range []struct {
		from   string
		amount int64
		e      api.Errno
	}{{"", most + 1, api.ErrUnknown}, {"A", most + 1, api.ErrRange}, {"A", 3, api.OK}, {"B", 0, api.OK}, {"C", 1, api.OK}, {"C", -1, api.OK}, {"C", -1, api.OK}} {
		want(t, "SetMultilateral", x.SetMultilateral(y.from, y.amount), y.e)
	}
	expected := []limit.Limit{{From: "A", Amount: 3}, {From: "A", To: "B", Amount: 7}, {From: "A", To: "C", Amount: most}, {From: "B"}}
	if !slices.Equal(x.Limits(), expected) {
		t.Error(x.Limits())
	}
	x.Limits()[0].Amount = 99
	if !slices.Equal(x.Limits(), expected) {
		t.Error("Limits shares memory")
	}
}

// P16.1 P16.3
func TestMembers(t *testing.T) {
	x := limit.New()
	for i := range limit.MaxMembers - 1 {
		want(t, "members", x.SetMultilateral("M"+strconv.Itoa(i), 5), api.OK)
	}
	want(t, "two more", x.SetBilateral("A", "B", 5), api.ErrLimit)
	want(t, "removal", x.SetBilateral("A", "B", -5), api.OK)
	record(t, x, api.ErrLimit, flow{"A", "B", 1})
	record(t, x, api.OK, flow{"A", "B", 1}, flow{"B", "A", 1})
	record(t, x, api.OK, flow{"A", "B", 0})
	record(t, x, api.OK, flow{"A", "M0", 1})
	want(t, "another", x.SetMultilateral("B", 0), api.ErrLimit)
	want(t, "known", x.SetBilateral("A", "M7", 0), api.OK)
	want(t, "range first", x.SetMultilateral("B", most+1), api.ErrRange)
	record(t, x, api.OK, flow{"M0", "A", 1})
	want(t, "limit still names it", x.SetMultilateral("B", 0), api.ErrLimit)
	x.SetBilateral("A", "M7", -1)
	want(t, "no longer mentioned", x.SetMultilateral("B", 0), api.OK)
	x.SetMultilateral("B", -1)
	record(t, x, api.OK, flow{"C", "M0", 2})
	want(t, "net amounts count", x.SetMultilateral("B", 0), api.ErrLimit)
	x.Reset()
	want(t, "after reset", x.SetMultilateral("B", 0), api.OK)
	many := make([]flow, limit.MaxFlows+1)
	record(t, limit.New(), api.ErrLimit, many...)
	record(t, limit.New(), api.ErrUnknown, many[1:]...)
	// The number of members is checked before the amounts.
	record(t, x, api.ErrLimit, flow{"A", "C", most}, flow{"A", "C", most})
}

// P16.2
func TestRooms(t *testing.T) {
	x := limit.New()
	record(t, x, api.OK, flow{"A", "B", 10}, flow{"C", "A", 3}, flow{"B", "A", 1})
	net(t, x, "A", "B", 9)
	net(t, x, "C", "A", 3)
	net(t, x, "B", "C", 0)
	net(t, x, "A", "A", 0)
	if x.Outflow("A") != 6 || x.Outflow("B") != -9 || x.Outflow("C") != 3 || x.Outflow("D") != 0 || x.Outflow("") != 0 {
		t.Error("Outflow", x.Outflow("A"))
	}
	if r, ok := x.BilateralRoom("A", "B"); r != 0 || ok {
		t.Error("room without limit")
	}
	if r, ok := x.MultilateralRoom("A"); r != 0 || ok {
		t.Error("room without limit")
	}
	x.SetBilateral("A", "B", 5)
	x.SetBilateral("B", "A", 5)
	x.SetMultilateral("A", 4)
	x.SetMultilateral("B", 4)
	for _, y := range []struct {
		from, to string
		room     int64
	}{{"A", "B", -4}, {"B", "A", 14}} {
		if r, ok := x.BilateralRoom(y.from, y.to); r != y.room || !ok {
			t.Error("BilateralRoom", y, r)
		}
	}
	if r, ok := x.MultilateralRoom("A"); r != -2 || !ok {
		t.Error("MultilateralRoom", r)
	}
	if r, ok := x.MultilateralRoom("B"); r != 13 || !ok {
		t.Error("MultilateralRoom", r)
	}
	if r, ok := x.BilateralRoom("A", ""); r != 0 || ok {
		t.Error("a multilateral limit is none against nobody", r)
	}
	if _, ok := x.BilateralRoom("A", "C"); ok {
		t.Error("room without limit")
	}
}

// P16.3
func TestFlowErrors(t *testing.T) {
	x := limit.New()
	good := flow{"A", "B", 1}
	for _, y := range []struct {
		l []flow
		e api.Errno
	}{
		{[]flow{good, {"", "B", -1}, {"A", "A", 1}}, api.ErrUnknown}, {[]flow{{"A", "", 1}}, api.ErrUnknown}, {[]flow{{"", "", 1}}, api.ErrUnknown},
		{[]flow{{"A", "A", -1}, {"", "B", 1}}, api.ErrDuplicate}, {[]flow{{"A", "B", -1}, {"", "B", 1}}, api.ErrRange}, {[]flow{{"A", "B", most + 1}}, api.ErrRange},
		{[]flow{{"A", "B", most}, good}, api.ErrOverflow}, {[]flow{{"A", "B", most}, {"A", "C", 1}}, api.ErrOverflow}, {[]flow{{"B", "A", most}, {"C", "A", 1}}, api.ErrOverflow},
		{nil, api.OK}, {[]flow{{"A", "B", most}, {"B", "A", most}, good}, api.OK}, {[]flow{{"A", "B", most}, {"C", "A", 1}}, api.OK},
	} {
		x.Reset()
		record(t, x, y.e, y.l...)
	}
	x.Reset()
	l := make([]flow, limit.MaxFlows)
	for i := range l {
		l[i] = flow{"A", "B", most}
	}
	record(t, x, api.ErrOverflow, l...)
	for i := range l {
		if i%2 == 1 {
			l[i] = flow{"B", "A", most}
		}
	}
	record(t, x, api.OK, l...)
	net(t, x, "A", "B", 0)
}

// P16.3
func TestExceeding(t *testing.T) {
	x := limit.New()
	x.SetBilateral("A", "B", 5)
	x.SetMultilateral("A", 7)
	record(t, x, api.OK, flow{"A", "B", 5})
	record(t, x, api.ErrBilateral, flow{"A", "B", 1})
	record(t, x, api.OK, flow{"A", "C", 2})
	record(t, x, api.ErrMultilateral, flow{"A", "C", 1})
	record(t, x, api.ErrBilateral, flow{"A", "C", 1}, flow{"A", "B", 1})
	record(t, x, api.OK, flow{"A", "B", 8}, flow{"B", "A", 8})
	record(t, x, api.OK, flow{"A", "C", 1}, flow{"D", "A", 1})
	record(t, x, api.OK, flow{"A", "D", 1}, flow{"C", "A", 1})
	net(t, x, "A", "D", 0)
	// A limit below what has been paid is not exceeded by flows that reduce it or leave it as it is.
	x.SetBilateral("A", "B", 1)
	x.SetMultilateral("A", 2)
	record(t, x, api.OK, flow{"B", "A", 2})
	record(t, x, api.OK, flow{"A", "B", 0})
	record(t, x, api.ErrBilateral, flow{"A", "B", 1}, flow{"C", "A", 1})
	record(t, x, api.OK, flow{"A", "C", 1}, flow{"B", "A", 1})
	record(t, x, api.ErrMultilateral, flow{"A", "C", 2}, flow{"B", "A", 1})
	net(t, x, "A", "B", 2)
	// Overflow is checked first.
	record(t, x, api.ErrOverflow, flow{"A", "B", most})
}

// P16.4
func TestResetCloneEqual(t *testing.T) {
	make := func() *limit.Table {
		x := limit.New()
		x.SetBilateral("A", "B", 50)
		x.Record([]flow{{"A", "C", 3}})
		return x
	}
	x := make()
	for name, change := range map[string]func(x *limit.Table){
		"net":          func(x *limit.Table) { x.Record([]flow{{"A", "C", 1}}) },
		"other net":    func(x *limit.Table) { x.Record([]flow{{"B", "A", 1}}) },
		"limit":        func(x *limit.Table) { x.SetBilateral("A", "B", 51) },
		"other limit":  func(x *limit.Table) { x.SetBilateral("B", "A", 50) },
		"multilateral": func(x *limit.Table) { x.SetMultilateral("A", 0) },
		"removed":      func(x *limit.Table) { x.SetBilateral("A", "B", -1) },
		"reset":        func(x *limit.Table) { x.Reset() },
	} {
		c := x.Clone()
		if !c.Equal(x) || !x.Equal(make()) {
			t.Fatal("clone is not equal")
		}
		change(c)
		if c.Equal(x) || x.Equal(c) || !x.Equal(make()) {
			t.Error(name)
		}
	}
	c := x.Clone()
	c.Record([]flow{{"A", "D", 1}})
	c.Record([]flow{{"D", "A", 1}})
	if !c.Equal(x) {
		t.Error("a net amount of 0 differs from none")
	}
	want(t, "Reset", x.Reset(), api.OK)
	net(t, x, "A", "C", 0)
	if x.Outflow("A") != 0 || len(x.Limits()) != 1 {
		t.Error("Reset")
	}
	var none *limit.Table
	for _, e := range []api.Errno{none.SetBilateral("", "", 0), none.SetMultilateral("", 0), none.Check(nil), none.Record(nil), none.Reset()} {
		want(t, "nil", e, api.ErrArgument)
	}
	r1, ok1 := none.BilateralRoom("A", "B")
	r2, ok2 := none.MultilateralRoom("A")
	if len(none.Limits()) != 0 || none.Net("A", "B") != 0 || none.Outflow("A") != 0 || r1 != 0 || ok1 || r2 != 0 || ok2 || none.Clone() != nil || !none.Equal(nil) || none.Equal(x) || x.Equal(nil) {
		t.Error("nil table")
	}
}

// P16.5
func TestSums(t *testing.T) {
	x := limit.New()
	members := []string{"A", "B", "C", "D"}
	seed := uint64(7)
	for range 200 {
		seed = seed*6364136223846793005 + 1442695040888963407
		from, to := members[seed>>60&3], members[seed>>40&3]
		if from != to {
			record(t, x, api.OK, flow{from, to, int64(seed >> 50)})
		}
		var sum int64
		for _, m := range members {
			var out int64
			for _, o := range members {
				out += x.Net(m, o)
				if x.Net(m, o) != -x.Net(o, m) {
					t.Error("Net is not antisymmetric")
				}
			}
			if out != x.Outflow(m) {
				t.Error("Outflow", m)
			}
			sum += out
		}
		if sum != 0 {
			t.Error("outflows add up to", sum)
		}
	}
}

// Example 1
func TestExample(t *testing.T) {
	x := limit.New()
	x.SetBilateral("A", "B", 5)
	record(t, x, api.ErrBilateral, flow{"A", "B", 7})
	record(t, x, api.OK, flow{"A", "B", 7}, flow{"B", "A", 3})
	r, _ := x.BilateralRoom("A", "B")
	if x.Net("A", "B") != 4 || r != 1 {
		t.Error(x.Net("A", "B"), r)
	}
}
