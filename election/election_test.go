package election_test

import (
	"math"
	"slices"
	"strconv"
	"strings"
	"testing"

	"giro/api"
	"giro/election"
	"giro/entitlement"
	"giro/fraction"
)

type (
	holder = entitlement.Holder
	option = election.Option
	choice = election.Choice
	result = election.Result
)

const most = int64(api.MaxAmount)

var deadline = api.Clock{Day: 10, Minute: 600}

func later() api.Clock { return api.Clock{Day: 10, Minute: 601} }

func three() []holder {
	return []holder{{Owner: "B", Quantity: 5}, {Owner: "A", Quantity: 10}, {Owner: "C", Quantity: 5}}
}

func cashOrShare() []option { return []option{{"CASH", 6}, {"SHARE", 0}} }

func must(t *testing.T, l []holder, options []option, byDefault string) *election.Election {
	t.Helper()
	e, code := election.New(l, options, byDefault, deadline)
	if code != api.OK || e == nil {
		t.Fatal("New", code)
	}
	return e
}

func choose(t *testing.T, e *election.Election, owner, option string, q int64, want api.Errno) {
	t.Helper()
	before := e.Clone()
	if code := e.Choose(owner, option, q, deadline); code != want {
		t.Error("Choose", owner, option, q, code, "want", want)
	}
	if want != api.OK && !e.Equal(before) {
		t.Error("a refused choice changes the election")
	}
}

// P44.1
func TestNew(t *testing.T) {
	many := make([]holder, entitlement.MaxHolders+1)
	for n := range many {
		many[n] = holder{Owner: strconv.Itoa(n), Quantity: 1}
	}
	wide := make([]option, election.MaxOptions+1)
	for n := range wide {
		wide[n] = option{"O" + strconv.Itoa(n), 0}
	}
	one := []holder{{Owner: "A", Quantity: 1}}
	long := strings.Repeat("X", election.MaxCode)
	late := api.Clock{Day: -1}
	for n, x := range []struct {
		l         []holder
		options   []option
		byDefault string
		deadline  api.Clock
		e         api.Errno
	}{
		{nil, nil, "", late, api.ErrLimit}, {many, nil, "", late, api.ErrLimit}, {many[1:], wide[1:], "O1", deadline, api.OK},
		{[]holder{{Owner: "", Quantity: 0}}, nil, "", late, api.ErrUnknown}, {[]holder{{Owner: "A", Quantity: 1}, {Owner: "A", Quantity: 0}, {Owner: "", Quantity: 1}}, nil, "", late, api.ErrDuplicate}, {[]holder{{Owner: "A", Quantity: 0}, {Owner: "A", Quantity: 1}}, nil, "", late, api.ErrRange}, {[]holder{{Owner: "A", Quantity: most + 1}}, nil, "", late, api.ErrRange},
		{[]holder{{Owner: "A", Quantity: most}, {Owner: "B", Quantity: 1}}, nil, "", late, api.ErrOverflow}, {[]holder{{Owner: "A", Quantity: most - 1}, {Owner: "B", Quantity: 1}}, cashOrShare(), "SHARE", deadline, api.OK},
		{one, nil, "", late, api.ErrLimit}, {one, wide, "", late, api.ErrLimit}, {one, []option{{"", -1}}, "", late, api.ErrFormat}, {one, []option{{"a", 0}}, "", late, api.ErrFormat}, {one, []option{{long + "X", 0}}, "", late, api.ErrFormat}, {one, []option{{"A-B", 0}}, "", late, api.ErrFormat}, {one, []option{{long, 0}}, long, deadline, api.OK},
		{one, []option{{"X", 0}, {"X", -1}}, "", late, api.ErrDuplicate}, {one, []option{{"X", -1}, {"X", 0}}, "", late, api.ErrRange}, {one, []option{{"X", most + 1}}, "", late, api.ErrRange},
		{one, cashOrShare(), "OTHER", late, api.ErrNotFound}, {one, cashOrShare(), "CASH", late, api.ErrKind}, {one, cashOrShare(), "SHARE", late, api.ErrDate}, {one, cashOrShare(), "SHARE", api.Clock{Day: 73049}, api.ErrDate}, {one, cashOrShare(), "SHARE", api.Clock{Minute: -1}, api.ErrDate}, {one, cashOrShare(), "SHARE", api.Clock{Minute: 1440}, api.ErrDate}, {one, cashOrShare(), "SHARE", api.Clock{Day: 73048, Minute: 1439}, api.OK},
	} {
		e, code := election.New(x.l, x.options, x.byDefault, x.deadline)
		if code != x.e || (e != nil) != (code == api.OK) {
			t.Error("New", n, code, "want", x.e)
		}
	}
}

// P44.2 P44.3
func TestChoose(t *testing.T) {
	e := must(t, three(), cashOrShare(), "SHARE")
	if len(e.Choices()) != 0 || !slices.Equal(e.Totals(), []int64{0, 20}) || e.Free("A") != 10 || e.Closed() {
		t.Error("new election")
	}
	for _, at := range []api.Clock{later(), {Day: 11}, {Day: math.MaxInt}} {
		if code := e.Choose("?", "?", -1, at); code != api.ErrCutoff {
			t.Error("after the deadline", code)
		}
	}
	choose(t, e, "D", "?", -1, api.ErrNotFound)
	choose(t, e, "A", "OTHER", -1, api.ErrUnknown)
	choose(t, e, "A", "CASH", -1, api.ErrRange)
	choose(t, e, "A", "CASH", most+1, api.ErrRange)
	choose(t, e, "A", "CASH", 11, api.ErrFunds)
	choose(t, e, "A", "CASH", 8, api.OK)
	choose(t, e, "A", "SHARE", 3, api.ErrFunds)
	choose(t, e, "A", "SHARE", 2, api.OK)
	choose(t, e, "A", "CASH", 9, api.ErrFunds)
	choose(t, e, "A", "CASH", 7, api.OK)
	choose(t, e, "C", "SHARE", 5, api.OK)
	choose(t, e, "C", "SHARE", 0, api.OK)
	choose(t, e, "B", "CASH", 1, api.OK)
	if code := e.Choose("B", "CASH", 5, api.Clock{Day: math.MinInt}); code != api.OK {
		t.Error("early", code)
	}
	if e.Chosen("A", "CASH") != 7 || e.Chosen("A", "SHARE") != 2 || e.Chosen("C", "SHARE") != 0 || e.Chosen("?", "CASH") != 0 || e.Chosen("A", "?") != 0 || e.Free("A") != 1 || e.Free("C") != 5 || e.Free("?") != 0 {
		t.Error("Chosen, Free")
	}
	if !slices.Equal(e.Choices(), []choice{{"A", "CASH", 7}, {"A", "SHARE", 2}, {"B", "CASH", 5}}) || !slices.Equal(e.Totals(), []int64{12, 8}) {
		t.Error(e.Choices(), e.Totals())
	}
}

// P44.4
func TestClose(t *testing.T) {
	e := must(t, three(), []option{{"CASH", 6}, {"SHARE", 0}, {"MIX", 3}, {"FREE", 0}}, "SHARE")
	choose(t, e, "A", "CASH", 6, api.OK)
	choose(t, e, "A", "MIX", 2, api.OK)
	choose(t, e, "B", "MIX", 2, api.OK)
	choose(t, e, "B", "FREE", 3, api.OK)
	for _, at := range []api.Clock{deadline, {}} {
		if l, code := e.Close(at); len(l) != 0 || code != api.ErrState || e.Closed() {
			t.Error("early", l, code)
		}
	}
	l, code := e.Close(later())
	want := []result{{"A", "CASH", 6, 6}, {"A", "SHARE", 2, 2}, {"A", "MIX", 2, 2}, {"B", "SHARE", 0, 1}, {"B", "MIX", 2, 1}, {"B", "FREE", 3, 3}, {"C", "SHARE", 5, 5}}
	parts, _ := fraction.Split(3, []int64{2, 2, 0})
	want[2].Accepted, want[4].Accepted = parts[0], parts[1]
	want[1].Accepted, want[3].Accepted = 4-parts[0], 2-parts[1]
	if !slices.Equal(l, want) || code != api.OK || !e.Closed() {
		t.Error(l, code, want)
	}
	if l, code := e.Close(api.Clock{}); len(l) != 0 || code != api.ErrClosed {
		t.Error("again", l, code)
	}
	if code := e.Choose("?", "?", -1, later()); code != api.ErrClosed {
		t.Error("Choose", code)
	}
	if e.Chosen("B", "FREE") != 3 || e.Free("A") != 2 || len(e.Choices()) != 4 {
		t.Error("what was chosen is not visible")
	}
}

// P44.6
func TestConsequences(t *testing.T) {
	for seed := range uint64(200) {
		s := seed
		next := func(n int) int { s = s*6364136223846793005 + 1442695040888963407; return int(s>>33) % n }
		var l []holder
		for n := range 1 + next(6) {
			l = append(l, holder{Owner: "H" + strconv.Itoa(n), Quantity: int64(1 + next(50))})
		}
		options := []option{{"A", int64(next(40))}, {"B", 0}, {"C", int64(next(40))}}
		e, f := must(t, l, options, "B"), must(t, l, options, "B")
		r := slices.Clone(l)
		slices.Reverse(r)
		g := must(t, r, options, "B")
		chosen := map[[2]string]int64{}
		for range 12 {
			o, c, q := l[next(len(l))].Owner, options[next(3)].Code, int64(next(30))
			if e.Choose(o, c, q, deadline) == api.OK {
				chosen[[2]string{o, c}] = q
			}
		}
		for _, c := range e.Choices() {
			f.Choose(c.Owner, c.Option, c.Quantity, deadline)
			g.Choose(c.Owner, c.Option, c.Quantity, deadline)
		}
		if !f.Equal(e) || !g.Equal(e) {
			t.Error("the order matters")
		}
		results, _ := e.Close(later())
		other, _ := g.Close(later())
		if !slices.Equal(results, other) {
			t.Error("results", results, other)
		}
		accepted, units := map[string]int64{}, map[string]int64{}
		for _, x := range results {
			accepted[x.Option] += x.Accepted
			units[x.Owner] += x.Accepted
			if x.Option != "B" && (x.Accepted > x.Chosen || x.Chosen != chosen[[2]string{x.Owner, x.Option}]) {
				t.Error("result", x)
			}
		}
		totals := e.Totals()
		for n, o := range options {
			want := totals[n]
			if o.Cap > 0 {
				want = min(want, o.Cap)
			}
			if o.Code != "B" && accepted[o.Code] != want {
				t.Error("option", o, accepted[o.Code], want)
			}
		}
		for _, h := range l {
			if units[h.Owner] != h.Quantity {
				t.Error("holder", h, units[h.Owner])
			}
		}
	}
}

// P44.5
func TestCloneEqual(t *testing.T) {
	build := func() *election.Election {
		e := must(t, three(), cashOrShare(), "SHARE")
		e.Choose("A", "CASH", 3, deadline)
		return e
	}
	e := build()
	for name, change := range map[string]func(e *election.Election){"choose": func(e *election.Election) { e.Choose("A", "CASH", 4, deadline) }, "other": func(e *election.Election) { e.Choose("A", "SHARE", 1, deadline) }, "close": func(e *election.Election) { e.Close(later()) }} {
		c := e.Clone()
		if !c.Equal(e) || !e.Equal(build()) {
			t.Fatal("clone is not equal")
		}
		change(c)
		if c.Equal(e) || !e.Equal(build()) {
			t.Error(name)
		}
	}
	base := must(t, three(), []option{{"X", 0}, {"Y", 0}}, "X")
	other, _ := election.New(three(), []option{{"X", 0}, {"Y", 0}}, "X", later())
	for n, o := range []*election.Election{must(t, three(), []option{{"X", 0}, {"Y", 0}}, "Y"), must(t, three(), []option{{"Y", 0}, {"X", 0}}, "X"), must(t, three(), []option{{"X", 0}, {"Y", 1}}, "X"), must(t, three()[1:], []option{{"X", 0}, {"Y", 0}}, "X"), other, nil} {
		if base.Equal(o) {
			t.Error("Equal", n)
		}
	}
	options := []option{{"X", 0}, {"Y", 0}}
	l := three()
	e = must(t, l, options, "X")
	options[0].Code, l[0].Owner = "Z", "Z"
	if !e.Equal(base) {
		t.Error("arguments are kept")
	}
	var none *election.Election
	r, code := none.Close(later())
	if none.Choose("", "", 0, deadline) != api.ErrArgument || len(r) != 0 || code != api.ErrArgument || none.Chosen("", "") != 0 || none.Free("") != 0 || len(none.Choices())+len(none.Totals()) != 0 || none.Closed() || none.Clone() != nil || !none.Equal(nil) || none.Equal(e) {
		t.Error("nil election")
	}
}

// Example 1
func TestExample(t *testing.T) {
	e := must(t, three(), cashOrShare(), "SHARE")
	choose(t, e, "A", "CASH", 8, api.OK)
	choose(t, e, "B", "CASH", 5, api.OK)
	l, _ := e.Close(later())
	if !slices.Equal(l, []result{{"A", "CASH", 8, 4}, {"A", "SHARE", 2, 6}, {"B", "CASH", 5, 2}, {"B", "SHARE", 0, 3}, {"C", "SHARE", 5, 5}}) {
		t.Error(l)
	}
}

// P44.1 P44.2 P44.4: the least and the greatest values that are possible.
func TestBounds(t *testing.T) {
	l := []holder{{Owner: "A", Quantity: 1}, {Owner: "B", Quantity: most - 1}}
	options := []option{{"Z", 1}, {"A0", most}, {"REST", 0}}
	for _, c := range []api.Clock{{}, {Day: 73048, Minute: 1439}} {
		if e, code := election.New(l, options, "REST", c); e == nil || code != api.OK {
			t.Error("deadline", c, code)
		}
	}
	if e, code := election.New(nil, options, "REST", deadline); e != nil || code != api.ErrLimit {
		t.Error("no holders", code)
	}
	alone := must(t, []holder{{Owner: "A", Quantity: most}}, options, "REST")
	choose(t, alone, "A", "A0", most, api.OK)
	choose(t, alone, "A", "A0", most+1, api.ErrRange)
	// One unit that is chosen and not accepted is reported.
	e := must(t, l, options, "REST")
	choose(t, e, "A", "Z", 1, api.OK)
	choose(t, e, "B", "Z", most-1, api.OK)
	r, code := e.Close(later())
	if code != api.OK || !slices.Contains(r, result{"A", "Z", 1, 0}) || !slices.Contains(r, result{"B", "Z", most - 1, 1}) {
		t.Error("Close", r, code)
	}
}
