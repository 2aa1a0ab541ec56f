package console_test

import (
	"slices"
	"strconv"
	"strings"
	"testing"

	"giro/api"
	"giro/audit"
	"giro/calendar"
	"giro/console"
	"giro/corpaction"
	"giro/date"
	"giro/engine"
	"giro/fraction"
	"giro/message"
	"giro/parser"
	"giro/printer"
	"giro/refdata"
	"giro/schedule"
)

type (
	command = engine.Command
	event   = engine.Event
)

const isin, other = "US0378331005", "XS0000000009"

func frac(num, den int64) fraction.Fraction { f, _ := fraction.New(num, den); return f }

func day(t *testing.T, s string) int {
	t.Helper()
	n, e := date.Parse(s)
	if e != api.OK {
		t.Fatal(s, e)
	}
	return n
}

func everyDay(t *testing.T) *calendar.Calendar {
	t.Helper()
	cal, e := calendar.New(nil, nil)
	if e != api.OK {
		t.Fatal(e)
	}
	return cal
}

func open(t *testing.T) *console.Console {
	t.Helper()
	c, e := console.New(everyDay(t), schedule.Default())
	if e != api.OK || c == nil {
		t.Fatal("New", e)
	}
	return c
}

// same reports whether two commands are equal, valid or not.
func same(a, b command) bool {
	return a.Kind == b.Kind && a.Clock == b.Clock && a.Member == b.Member && a.Security == b.Security && a.Asset == b.Asset &&
		a.From == b.From && a.To == b.To && a.Amount == b.Amount && a.Ratio == b.Ratio && a.Action == b.Action &&
		a.Request.Op == b.Request.Op && a.Request.Sender == b.Request.Sender && a.Request.Ref == b.Request.Ref &&
		a.Request.Amendment == b.Request.Amendment && message.Equal(a.Request.Instruction, b.Request.Instruction)
}

// form is a canonical line and its command.
type form struct {
	line    string
	command command
}

func forms(t *testing.T) []form {
	t.Helper()
	member := func(code, lei string, active bool) command {
		return command{Kind: engine.SetMember, Member: refdata.Member{Code: code, LEI: lei, Active: active}}
	}
	security := func(lot int64, active bool) command {
		return command{Kind: engine.SetSecurity, Security: refdata.Security{ISIN: isin, Issuer: "ISSUER", Lot: lot, Active: active}}
	}
	dated := func(e corpaction.Event) command {
		e.Id, e.Issuer, e.Asset = "D-1", "ISSUER", isin
		e.ExDay, e.RecordDay, e.PayDay = day(t, "2000-01-10"), day(t, "2000-01-11"), day(t, "2000-01-20")
		return command{Kind: engine.Announce, Action: e}
	}
	const begin, end = "by ISSUER isin " + isin, " ex 2000-01-10 record 2000-01-11 pay 2000-01-20"
	const lei = "5493001KJTIIGC8Y1R12"
	return []form{
		{"time 2000-01-01 02:30", command{Kind: engine.Advance, Clock: api.Clock{Minute: 150}}},
		{"time 2024-02-29 23:59", command{Kind: engine.Advance, Clock: api.Clock{Day: day(t, "2024-02-29"), Minute: 1439}}},
		{"member BANKA active", member("BANKA", "", true)},
		{"member BANKA inactive", member("BANKA", "", false)},
		{"member BANKA lei " + lei + " active", member("BANKA", lei, true)},
		{"member BANKA lei " + lei + " inactive", member("BANKA", lei, false)},
		{"security " + isin + " by ISSUER lot 100 active", security(100, true)},
		{"security " + isin + " by ISSUER lot 1 inactive", security(1, false)},
		{"price " + isin + " 12.34", command{Kind: engine.SetPrice, Asset: isin, Amount: 1234}},
		{"haircut " + isin + " 1/10", command{Kind: engine.SetHaircut, Asset: isin, Ratio: frac(1, 10)}},
		{"haircut " + isin + " " + frac(0, 1).String(), command{Kind: engine.SetHaircut, Asset: isin, Ratio: frac(0, 1)}},
		{"issue CASH by CB to BANKA 100.00", command{Kind: engine.Issue, Asset: api.Cash, From: "CB", To: "BANKA", Amount: 10000}},
		{"issue " + isin + " by ISSUER to BANKA 100", command{Kind: engine.Issue, Asset: isin, From: "ISSUER", To: "BANKA", Amount: 100}},
		{"redeem CASH by CB from BANKA 0.01", command{Kind: engine.Redeem, Asset: api.Cash, From: "CB", To: "BANKA", Amount: 1}},
		{"redeem " + isin + " by ISSUER from BANKA 7", command{Kind: engine.Redeem, Asset: isin, From: "ISSUER", To: "BANKA", Amount: 7}},
		{"limit BANKA against BANKB 0.50", command{Kind: engine.SetBilateral, From: "BANKA", To: "BANKB", Amount: 50}},
		{"limit BANKA against BANKB 0.00", command{Kind: engine.SetBilateral, From: "BANKA", To: "BANKB"}},
		{"limit BANKA against BANKB none", command{Kind: engine.SetBilateral, From: "BANKA", To: "BANKB", Amount: -1}},
		{"limit BANKA 3.00", command{Kind: engine.SetMultilateral, From: "BANKA", Amount: 300}},
		{"limit BANKA none", command{Kind: engine.SetMultilateral, From: "BANKA", Amount: -1}},
		{"reserve BANKA 1.00", command{Kind: engine.Reserve, From: "BANKA", Amount: 100}},
		{"unreserve BANKA 1000000000.00", command{Kind: engine.Unreserve, From: "BANKA", Amount: 100000000000}},
		{"auto BANKA on", command{Kind: engine.SetAuto, From: "BANKA", Amount: 1}},
		{"auto BANKA off", command{Kind: engine.SetAuto, From: "BANKA"}},
		{"action dividend D-1 " + begin + " cash 1/2" + end, dated(corpaction.Event{Kind: corpaction.Dividend, Cash: frac(1, 2)})},
		{"action split D-1 " + begin + " ratio 2 price 1.00" + end, dated(corpaction.Event{Kind: corpaction.Split, Ratio: frac(2, 1), Price: 100})},
		{"action merger D-1 " + begin + " into " + other + " ratio 1/2 cash 3/4 price 5.00" + end, dated(corpaction.Event{Kind: corpaction.Merger, Into: other, Ratio: frac(1, 2), Cash: frac(3, 4), Price: 500})},
		{"action rights D-1 " + begin + " into " + other + " ratio 1/2 price 5.00" + end, dated(corpaction.Event{Kind: corpaction.Rights, Into: other, Ratio: frac(1, 2), Price: 500})},
		{"action redemption D-1 " + begin + " cash 100" + end, dated(corpaction.Event{Kind: corpaction.Redemption, Cash: frac(100, 1)})},
		{"withdraw D-1", command{Kind: engine.Withdraw, From: "D-1"}},
	}
}

// P56.1 P56.2 P56.7: every form of the table.
func TestForms(t *testing.T) {
	for _, f := range forms(t) {
		if e := f.command.Check(); e != api.OK {
			t.Error(f.line, "is not valid:", e)
		}
		c, e := console.Parse(f.line)
		if !same(c, f.command) || e != api.OK {
			t.Errorf("%s: %+v, error %d", f.line, c, e)
		}
		if line, e := console.Print(f.command); line != f.line || e != api.OK {
			t.Errorf("%s: printed %q, error %d", f.line, line, e)
		}
		// Other blanks and a comment do not matter.
		loose := "\t " + strings.ReplaceAll(f.line, " ", " \t ") + "  #and more # words"
		if c, e := console.Parse(loose); !same(c, f.command) || e != api.OK {
			t.Errorf("%q: %+v, error %d", loose, c, e)
		}
	}
}

// P56.1: lines without a form, made from those with one.
func TestSyntax(t *testing.T) {
	wants := func(line string, want api.Errno) {
		t.Helper()
		if c, e := console.Parse(line); !same(c, command{}) || e != want {
			t.Errorf("%q: error %d, want %d, %+v", line, e, want, c)
		}
	}
	for _, f := range forms(t) {
		words := strings.Fields(f.line)
		wants(f.line+" more", api.ErrSyntax)
		for n, w := range words {
			changed := slices.Clone(words)
			changed[n] = "x" + w
			wants(strings.Join(changed, " "), api.ErrSyntax)
			changed[n] = w + "\n"
			wants(strings.Join(changed, " "), api.ErrSyntax)
			changed[n] = "#" + w
			wants(strings.Join(changed, " "), api.ErrSyntax)
			if strings.ToUpper(w) != w {
				changed[n] = strings.ToUpper(w)
				wants(strings.Join(changed, " "), api.ErrSyntax)
			}
			if n > 0 {
				wants(strings.Join(words[:n], " "), api.ErrSyntax)
			}
		}
	}
	for _, line := range []string{
		"", " \t", "#", "# time 2000-01-01 02:30", "unknown", "balances BANKA", "orders", "phase", "hash", "Time 2000-01-01 02:30",
		"time 2000-01-01", "time 2000-01-01 2:30", "time 2000-01-01 24:00", "time 2001-02-29 02:30", "time 02:30 2000-01-01", "time 2000-01-01 02:30:00",
		"time 2000-01-01\u00a002:30", "time 1999-12-31 02:30",
		"member BANKA", "member BANKA yes", "member banka active", "member BANK_A active", "member BANKA lei active", "member BANKA lei lei active", "member active",
		"member " + strings.Repeat("A", 33) + " active", "member BANKÄ active",
		"security " + isin + " by ISSUER lot 1.00 active", "security " + isin + " by ISSUER lot 0 active", "security " + isin + " by ISSUER lot -1 active", "security " + isin + " by ISSUER lot +1 active", "security " + isin + " lot 1 by ISSUER active",
		"price " + isin + " 12", "price " + isin + " 12.3", "price " + isin + " 12.345", "price " + isin + " -1.00", "price " + isin + " 01.00", "price " + isin + " .50", "price " + isin + " +1.00", "price " + isin + " 10000000000000000.00", "price " + isin + " none",
		"haircut " + isin + " 0.1", "haircut " + isin + " 1/0", "haircut " + isin + " 2/4", "haircut " + isin + " 10/1", "haircut " + isin + " /",
		"issue CASH by CB to BANKA 100", "issue " + isin + " by ISSUER to BANKA 100.00", "issue CASH by CB from BANKA 100.00", "issue CASH to BANKA by CB 100.00",
		"redeem CASH by CB to BANKA 1.00", "redeem CASH by CB from BANKA 1", "issue CASH by CB to BANKA -1.00",
		"limit BANKA", "limit BANKA against none", "limit BANKA against BANKB", "limit BANKA -0.01", "limit BANKA -1", "limit BANKA none none", "limit none", "limit BANKA against BANKB against BANKC none",
		"reserve BANKA none", "reserve BANKA 1", "unreserve BANKA", "reserve 1.00 BANKA",
		"auto BANKA", "auto BANKA yes", "auto BANKA 1", "auto on BANKA",
		"action dividend D by ISSUER isin " + isin + " cash 1/2 ratio 1/1 ex 2000-01-10 record 2000-01-11 pay 2000-01-20",
		"action dividend D by ISSUER isin " + isin + " cash 1/2 cash 1/2 ex 2000-01-10 record 2000-01-11 pay 2000-01-20",
		"action dividend D by ISSUER isin " + isin + " cash 1/2 ex 2000-01-10 pay 2000-01-20 record 2000-01-11",
		"action dividend D by ISSUER isin " + isin + " cash 1/2 ex 2000-01-10 record 2000-01-11",
		"action bonus D by ISSUER isin " + isin + " cash 1/2 ex 2000-01-10 record 2000-01-11 pay 2000-01-20",
		"action 0 D by ISSUER isin " + isin + " cash 1/2 ex 2000-01-10 record 2000-01-11 pay 2000-01-20",
		"action dividend D by ISSUER isin " + isin + " price 5 ex 2000-01-10 record 2000-01-11 pay 2000-01-20",
		"withdraw", "withdraw d", "withdraw D E",
	} {
		wants(line, api.ErrSyntax)
	}
}

// P56.1: lines with a form whose command is not valid.
func TestCheck(t *testing.T) {
	const dates = " ex 2000-01-10 record 2000-01-11 pay 2000-01-20"
	for line, want := range map[string]api.Errno{
		"action dividend D-1 by B isin " + isin + " cash 1/2" + dates:                                           api.ErrUnknown,
		"action dividend D-1 by ISSUER isin X cash 1/2" + dates:                                                 api.ErrUnknown,
		"action dividend D-1 by ISSUER isin " + isin + " into " + other + " cash 1/2" + dates:                   api.ErrFormat,
		"action dividend D-1 by ISSUER isin " + isin + " ratio 1/2 cash 1/2" + dates:                            api.ErrFormat,
		"action dividend D-1 by ISSUER isin " + isin + " cash -1/2" + dates:                                     api.ErrRange,
		"action dividend D-1 by ISSUER isin " + isin + " cash 1/2 price 1.00" + dates:                           api.ErrFormat,
		"action rights D-1 by ISSUER isin " + isin + " into " + isin + " ratio 1/2" + dates:                     api.ErrArgument,
		"action split D-1 by ISSUER isin " + isin + " ratio 0" + dates:                                          api.ErrRange,
		"action dividend D-1 by ISSUER isin " + isin + " cash 1 ex 2000-01-12 record 2000-01-11 pay 2000-01-20": api.ErrDate,
	} {
		if c, e := console.Parse(line); !same(c, command{}) || e != want {
			t.Errorf("%q: error %d, want %d", line, e, want)
		}
	}
	longest := strings.Repeat("A", 32)
	if c, e := console.Parse("withdraw " + longest); c.From != longest || e != api.OK {
		t.Error("longest name", e)
	}
	// A missing part and one that is zero are the same.
	c, e := console.Parse("action dividend D-1 by ISSUER isin " + isin + " cash 1 price 0.00" + dates)
	d, e2 := console.Parse("action dividend D-1 by ISSUER isin " + isin + " cash 1" + dates)
	if !same(c, d) || e != api.OK || e2 != api.OK {
		t.Error("price 0.00", e, e2)
	}
}

// P56.1 P56.2: the lines of layer 19.
func TestRequests(t *testing.T) {
	for _, line := range []string{
		"pay P1 from BANKA to BANKB amount 1500.00 day 2026-11-16 urgent hold",
		"pay P1 from BANKA to BANKB amount 1500.00 day 2026-11-16 with P2 after P3",
		"deliver D1 from BANKA to BANKB isin " + isin + " quantity 10 against 1.00 trade 2026-11-13 day 2026-11-16 partial 5",
		"receive R1 from BANKA to BANKB isin " + isin + " quantity 10 free trade 2026-11-13 day 2026-11-16",
		"pledge G1 by BANKA isin " + isin + " quantity 10 day 2026-11-16",
		"release G2 by BANKA isin " + isin + " quantity 10 day 2026-11-16",
		"amend P1 by BANKA amount 1.00 day 2026-11-17 high whole",
		"cancel P1 by BANKA", "hold P1 by BANKA", "resume P1 by BANKA",
	} {
		r, _, e := parser.Parse(line)
		if e != api.OK {
			t.Fatal(line, e)
		}
		want := command{Kind: engine.Submit, Request: r}
		loose := " \t" + strings.ReplaceAll(line, " ", "  ") + " # words"
		for _, l := range []string{line, loose} {
			if c, e := console.Parse(l); !same(c, want) || e != api.OK {
				t.Errorf("%q: %+v, error %d", l, c, e)
			}
		}
		canonical, _ := printer.Print(r)
		if got, e := console.Print(want); got != canonical || e != api.OK {
			t.Errorf("%q: printed %q, error %d", line, got, e)
		}
	}
	for line, want := range map[string]api.Errno{
		"pay": api.ErrShort, "pay P1 from BANKA to": api.ErrShort, "cancel P1 by BANKA now": api.ErrSyntax, "hold P1 by B": api.ErrUnknown,
		"amend P1 by BANKA day 2026-11-31": api.ErrDate, "amend P1 by BANKA high urgent": api.ErrDuplicate,
		"pay P1 from BANKA to BANKA amount 1.00 day 2026-11-16": api.ErrArgument, "pays": api.ErrSyntax, "Pay": api.ErrSyntax, "pay#": api.ErrSyntax,
	} {
		c, e := console.Parse(line)
		_, _, parsed := parser.Parse(line)
		if !same(c, command{}) || e != want || e != parsed && strings.HasPrefix(line, "pay ") {
			t.Errorf("%q: error %d, want %d", line, e, want)
		}
	}
}

// P56.2: commands without a line.
func TestPrint(t *testing.T) {
	issue := command{Kind: engine.Issue, Asset: api.Cash, From: "CB", To: "BANKA", Amount: 100}
	bilateral := command{Kind: engine.SetBilateral, From: "BANKA", To: "BANKB", Amount: 100}
	member := command{Kind: engine.SetMember, Member: refdata.Member{Code: "BANKA"}}
	security := command{Kind: engine.SetSecurity, Security: refdata.Security{ISIN: isin, Issuer: "ISSUER", Lot: 1}}
	withAmount := func(c command, x int64) command { c.Amount = x; return c }
	units := issue
	units.Asset = isin
	to := func(name string) command { c := issue; c.To = name; return c }
	lot := func(x int64) command { c := security; c.Security.Lot = x; return c }
	code := func(s, lei string) command { c := member; c.Member.Code, c.Member.LEI = s, lei; return c }
	for n, c := range []command{
		to("BANK A"), to(""), to("banka"), to("BANKA "), to(" BANKA"), to("BANKA\t"), to("BANKA #"), to("#"), to(strings.Repeat("A", 33)), to("BANK\nA"), to("BANKÄ"), to("100.00"),
		withAmount(issue, -1), withAmount(issue, api.MaxAmount+1), withAmount(units, 0), withAmount(units, -1), withAmount(units, api.MaxAmount+1),
		withAmount(bilateral, -2), withAmount(bilateral, api.MaxAmount+1), {Kind: engine.SetMultilateral, From: "BANKA", Amount: -2}, {Kind: engine.SetMultilateral, From: "BANKA against BANKB"},
		{Kind: engine.SetMultilateral, From: "BANKA", Amount: -1 << 63},
		{Kind: engine.Reserve, From: "BANKA", Amount: -1}, {Kind: engine.Unreserve, Amount: 1}, {Kind: engine.SetAuto}, {Kind: engine.Withdraw}, {Kind: engine.Withdraw, From: "D 1"},
		{Kind: engine.SetPrice, Asset: isin, Amount: -5}, {Kind: engine.SetHaircut, Asset: isin}, {Kind: engine.SetHaircut, Asset: isin, Ratio: fraction.Fraction{Num: 2, Den: 4}},
		lot(0), lot(-1), lot(api.MaxAmount + 1), code("", ""), code("BANKA lei X", ""), code("BANKA", "x"), code("BANKA", "X active"), code("BANKA active", ""),
	} {
		if e := c.Check(); e != api.OK {
			t.Error("command", n, "is not valid:", e)
		}
		if line, e := console.Print(c); line != "" || e != api.ErrSyntax {
			t.Errorf("command %d: %q, error %d", n, line, e)
		}
	}
	unused := issue
	unused.Ratio = frac(1, 2)
	for _, c := range []command{
		{Kind: -1}, {Kind: 15}, unused, {Kind: engine.Advance, Clock: api.Clock{Day: -1}}, {Kind: engine.Advance, Clock: api.Clock{Minute: 1440}},
		{Kind: engine.SetAuto, From: "BANKA", Amount: 2}, {Kind: engine.Submit}, {Kind: engine.Announce}, {Kind: engine.Announce, From: "X"},
	} {
		want := c.Check()
		if line, e := console.Print(c); line != "" || e != want || want == api.OK {
			t.Errorf("command %d: %q, error %d, want %d", c.Kind, line, e, want)
		}
	}
	for _, x := range []int64{0, 1, api.MaxAmount} {
		c := withAmount(issue, x)
		line, e := console.Print(c)
		if again, e2 := console.Parse(line); !same(again, c) || e != api.OK || e2 != api.OK {
			t.Error(x, line, e, e2)
		}
	}
}

// P56.3
func TestRender(t *testing.T) {
	events := []string{"posted", "accepted", "matched", "settled", "part", "pledged", "changed", "cancelled", "failed", "phase", "recorded", "paid", "adjusted", "charged", "seized", "released"}
	kinds := []string{"free", "reserved", "earmarked", "pledged", "issued"}
	for n := range 20 {
		want := ""
		if n < len(events) {
			want = events[n]
		}
		if console.EventName(n) != want {
			t.Error("event", n, console.EventName(n))
		}
		want = ""
		if n < len(kinds) {
			want = kinds[n]
		}
		if console.KindName(n) != want {
			t.Error("kind", n, console.KindName(n))
		}
	}
	for _, n := range []int{-1, -1 << 63, 1<<63 - 1} {
		if console.EventName(n) != "" || console.KindName(n) != "" {
			t.Error("number", n)
		}
	}
	posting := func(owner string, kind int, asset string, x int64) api.Posting {
		return api.Posting{Account: api.Account{Owner: owner, Kind: kind, Asset: asset}, Delta: x}
	}
	for want, x := range map[string]event{
		"1 2000-01-01 02:30 phase start 0\n": {Seq: 1, Clock: api.Clock{Minute: 150}, Kind: engine.PhaseBegun, Ref: "start"},
		"0 2000-01-01 00:00 posted - 0\n":    {},
		"-3  settled A/B -77\n":              {Seq: -3, Clock: api.Clock{Day: -1}, Kind: engine.Settled, Ref: "A/B", Amount: -77},
		"12 2000-01-02 23:59  x 9223372036854775807\n  A free CASH -9223372036854775808\n  B issued " + isin + " 5\n  C  X 0\n": {
			Seq: 12, Clock: api.Clock{Day: 1, Minute: 1439}, Kind: 16, Ref: "x", Amount: 1<<63 - 1,
			Postings: []api.Posting{posting("A", api.Free, api.Cash, -1<<63), posting("B", api.Issued, isin, 5), posting("C", 7, "X", 0)},
		},
	} {
		if got := console.Render(x); got != want {
			t.Errorf("%q, want %q", got, want)
		}
	}
}

// P56.4
func TestNew(t *testing.T) {
	if c, e := console.New(nil, schedule.Default()); c != nil || e != api.ErrArgument {
		t.Error("nil calendar", e)
	}
	if c, e := console.New(everyDay(t), schedule.Schedule{}); c != nil || e != api.ErrRange {
		t.Error("schedule", e)
	}
	c := open(t)
	e := c.Engine()
	initial, _ := engine.New(everyDay(t), schedule.Default())
	if !e.Equal(initial) {
		t.Error("initial state")
	}
	e.Step(command{Kind: engine.Advance, Clock: api.Clock{Minute: 500}})
	if !c.Engine().Equal(initial) || c.Engine().Clock() != (api.Clock{}) {
		t.Error("the state is shared")
	}
	// Two consoles share nothing.
	c.Line("time 2000-01-01 07:00")
	if !open(t).Engine().Equal(initial) || c.Engine().Equal(initial) {
		t.Error("shared disk")
	}
}

// answers executes lines, each with its answer behind a bar.
func answers(t *testing.T, c *console.Console, text string) {
	t.Helper()
	for _, x := range strings.Split(strings.TrimSpace(text), "\n") {
		line, want, _ := strings.Cut(strings.TrimSpace(x), " | ")
		want = strings.ReplaceAll(want, "; ", "\n")
		if got := c.Line(line); got != want+"\n" {
			t.Errorf("%s: %q, want %q", line, got, want+"\n")
		}
	}
}

// P56.5 T23
func TestLine(t *testing.T) {
	c := open(t)
	for _, line := range []string{"", " ", "\t \t", "# time 2000-01-01 02:30", " #", "#hash"} {
		if got := c.Line(line); got != "" {
			t.Errorf("%q: %q", line, got)
		}
	}
	answers(t, c, `
		phase | 2000-01-01 00:00 night
		balances BANKA | none
		orders | none
		state P1 by BANKA | unknown
		time 2000-01-01 02:30 | 1 2000-01-01 02:30 phase start 0
		phase | 2000-01-01 02:30 start
		time 2000-01-01 01:00 | error `+strconv.Itoa(int(api.ErrStale))+`
		crash | recovered 1
		time 2000-01-01 07:00 | 2 2000-01-01 05:00 phase entry 0; 3 2000-01-01 07:00 phase realtime 0
		phase now | error 30
		phase # now | 2000-01-01 07:00 realtime`)
	for _, m := range []string{"BANKA", "BANKB", "ISSUER"} {
		if got := c.Line("member " + m + " active"); got != "" {
			t.Error(m, got)
		}
	}
	answers(t, c, `
		issue CASH by CB to BANKA 100.00 | 4 2000-01-01 07:00 posted issue 10000;   CB issued CASH -10000;   BANKA free CASH 10000
		balances BANKA | CASH free 100.00
		balances CB | CASH issued -100.00
		balances BANKB | none
		pay P0 from BANKA to BANKB amount 0.01 day 2000-01-01 | 5 2000-01-01 07:00 accepted BANKA/P0 0; 6 2000-01-01 07:00 settled BANKA/P0 0;   BANKA free CASH -1;   BANKB free CASH 1
		balances BANKB | CASH free 0.01
		pay P0 from BANKB to BANKA amount 0.01 day 2000-01-01 | 7 2000-01-01 07:00 accepted BANKB/P0 0; 8 2000-01-01 07:00 settled BANKB/P0 0;   BANKB free CASH -1;   BANKA free CASH 1
		balances BANKB | none
		pay P1 from BANKA to BANKB amount 60.00 day 2000-01-01 | 9 2000-01-01 07:00 accepted BANKA/P1 0; 10 2000-01-01 07:00 settled BANKA/P1 0;   BANKA free CASH -6000;   BANKB free CASH 6000
		state P1 by BANKA | settled
		pay P2 from BANKA to BANKB amount 60.00 day 2000-01-01 | 11 2000-01-01 07:00 accepted BANKA/P2 0
		pay P3 from BANKA to BANKB amount 70.00 day 2000-01-01 hold urgent | 12 2000-01-01 07:00 accepted BANKA/P3 0
		state P2 by BANKA | waiting
		state P3 by BANKA | held
		state P2 by BANKB | unknown
		orders | BANKA/P3; BANKA/P2
		cancel P3 by BANKA | 13 2000-01-01 07:00 cancelled BANKA/P3 0
		state P3 by BANKA | cancelled
		orders | BANKA/P2
		reserve BANKA 10.00 | 14 2000-01-01 07:00 posted reserve 1000;   BANKA free CASH -1000;   BANKA reserved CASH 1000
		balances BANKA | CASH free 30.00; CASH reserved 10.00
		checkpoint | ok
		crash | recovered 13
		balances BANKA # twice | CASH free 30.00; CASH reserved 10.00
		cancel P3 by BANKA | error `+strconv.Itoa(int(api.ErrState))+`
		cancel P9 by BANKA | error `+strconv.Itoa(int(api.ErrNotFound))+`
		pay P4 from BANKA to | error `+strconv.Itoa(int(api.ErrShort))+`
		balances | error 30
		balances banka | error 30
		balances BANKA BANKB | error 30
		state P1 | error 30
		state P1 of BANKA | error 30
		state p1 by BANKA | error 30
		state P1 by BANKA now | error 30
		orders BANKA | error 30
		hash it | error 30
		checkpoint 1 | error 30
		crash now | error 30
		nothing | error 30`)
	hash := c.Engine().Hash()
	if got := c.Line("hash"); got != hash.String()+"\n" || len(got) != 65 || strings.ToLower(got) != got {
		t.Error("hash", got)
	}
}

// P56.5: balances are ordered by asset and kind, and the states have names.
func TestAnswers(t *testing.T) {
	c := open(t)
	text := "time 2000-01-01 07:00\nmember BANKA active\nmember BANKB active\nmember ISSUER active\n"
	for _, s := range []string{isin, other, "AU0000XVGZA3"} {
		text += "security " + s + " by ISSUER lot 1 active\nprice " + s + " 0.10\nhaircut " + s + " 0\nissue " + s + " by ISSUER to BANKA 10\n"
	}
	text += "issue CASH by CB to BANKA 5.00\nreserve BANKA 1.00\n" +
		"pledge G1 by BANKA isin " + isin + " quantity 4 day 2000-01-01\n" +
		"deliver D1 from BANKA to BANKB isin " + isin + " quantity 3 against 1.00 trade 2000-01-01 day 2000-01-01\n"
	if got, e := c.Run(text); e != api.OK || strings.Contains(got, "error") {
		t.Fatal(got, e)
	}
	answers(t, c, `
		balances BANKA | AU0000XVGZA3 free 10; CASH free 4.00; CASH reserved 1.00; `+isin+` free 6; `+isin+` pledged 4; `+other+` free 10
		balances ISSUER | AU0000XVGZA3 issued -10; `+isin+` issued -10; `+other+` issued -10
		state G1 by BANKA | settled
		state D1 by BANKA | unmatched`)
	c.Line("receive R1 from BANKA to BANKB isin " + isin + " quantity 3 against 1.00 trade 2000-01-01 day 2000-01-01 partial 1")
	answers(t, c, `
		state D1 by BANKA | waiting
		state R1 by BANKB | waiting`)
	c.Line("time 2000-01-01 18:00")
	if got := c.Line("state D1 by BANKA"); got != "waiting\n" && got != "failed\n" {
		t.Error("after the closing", got)
	}
}

// P56.5: partly settled trades, and failed instructions.
func TestStates(t *testing.T) {
	c := open(t)
	text := "time 2000-01-01 07:00\nmember BANKA active\nmember BANKB active\nmember ISSUER active\n" +
		"security " + isin + " by ISSUER lot 1 active\nissue " + isin + " by ISSUER to BANKA 5\nissue CASH by CB to BANKB 100.00\n" +
		"deliver D1 from BANKA to BANKB isin " + isin + " quantity 10 against 10.00 trade 2000-01-01 day 2000-01-01 partial 1\n" +
		"receive R1 from BANKA to BANKB isin " + isin + " quantity 10 against 10.00 trade 2000-01-01 day 2000-01-01 partial 1\n" +
		"pay P1 from BANKA to BANKB amount 60.00 day 2000-01-01\n"
	if got, e := c.Run(text); e != api.OK || strings.Contains(got, "error") {
		t.Fatal(got, e)
	}
	answers(t, c, "state D1 by BANKA | partly\nstate R1 by BANKB | partly\nstate P1 by BANKA | waiting")
	c.Line("time 2000-01-01 18:00")
	answers(t, c, "state P1 by BANKA | failed")
}

// P56.6
func TestRun(t *testing.T) {
	c := open(t)
	text := "time 2000-01-01 02:30 # morning\n\n# nothing\nphase\nhash"
	got, e := c.Run(text)
	want := "1 2000-01-01 02:30 phase start 0\n2000-01-01 02:30 start\n" + c.Engine().Hash().String() + "\n"
	if e != api.OK || got != want {
		t.Errorf("%q, %d", got, e)
	}
	before := c.Engine()
	if got, e := c.Run(strings.Repeat("#", console.MaxText+1)); got != "" || e != api.ErrLong {
		t.Error("long", e)
	}
	long := "time 2000-01-01 05:00\n#"
	if got, e := c.Run(long + strings.Repeat("x", console.MaxText+1-len(long))); got != "" || e != api.ErrLong || !c.Engine().Equal(before) {
		t.Error("long", e)
	}
	if got, e := c.Run(long + strings.Repeat("x", console.MaxText-len(long))); got != "2 2000-01-01 05:00 phase entry 0\n" || e != api.OK || console.MaxText != 1<<20 {
		t.Error("longest", got, e)
	}
	if got, e := c.Run(""); got != "" || e != api.OK {
		t.Error("empty", got, e)
	}
	var none *console.Console
	if got, e := none.Run("hash"); got != "" || e != api.ErrArgument {
		t.Error("nil", got, e)
	}
	if got, e := none.Run(strings.Repeat(" ", console.MaxText+1)); got != "" || e != api.ErrArgument {
		t.Error("nil", got, e)
	}
	if none.Line("hash") != "" || none.Line("") != "" || none.Engine() != nil {
		t.Error("nil")
	}
}

// session is a text that uses the whole system.
const session = `
	time 2000-01-01 07:00
	member BANKA active
	member BANKB active
	member BANKC active
	member ISSUER active
	security US0378331005 by ISSUER lot 1 active
	price US0378331005 0.10
	haircut US0378331005 1/10
	issue US0378331005 by ISSUER to BANKA 1000
	issue CASH by CB to BANKA 50.00
	issue CASH by CB to BANKB 50.00
	limit BANKA against BANKB 80.00
	limit BANKB 500.00
	auto BANKA on
	pay P1 from BANKA to BANKB amount 70.00 day 2000-01-01
	pay P2 from BANKB to BANKC amount 110.00 day 2000-01-01
	pay P3 from BANKC to BANKA amount 90.00 day 2000-01-01
	deliver D1 from BANKA to BANKC isin US0378331005 quantity 100 against 15.00 trade 2000-01-01 day 2000-01-01
	receive R1 from BANKA to BANKC isin US0378331005 quantity 100 against 15.00 trade 2000-01-01 day 2000-01-01
	action dividend DIV by ISSUER isin US0378331005 cash 1/100 ex 2000-01-01 record 2000-01-02 pay 2000-01-03
	issue CASH by CB to ISSUER 100.00
	pledge G1 by BANKA isin US0378331005 quantity 100 day 2000-01-01
	pay P4 from BANKA to BANKB amount 5.00 day 2000-01-02
	time 2000-01-02 07:00
	unreserve BANKA 1.00
	time 2000-01-04 07:00
	redeem CASH by CB from BANKB 1.00
	limit BANKA against BANKB none
	withdraw DIV
`

// P56.5 P56.7 T23: the console behaves as the state machine, and questions change nothing.
func TestSession(t *testing.T) {
	c := open(t)
	e, _ := engine.New(everyDay(t), schedule.Default())
	refused := 0
	for n, line := range strings.Split(session, "\n") {
		if strings.TrimSpace(line) == "" {
			continue
		}
		command, code := console.Parse(line)
		if code != api.OK {
			t.Fatal(line, code)
		}
		canonical, code := console.Print(command)
		again, code2 := console.Parse(canonical)
		if canonical != strings.TrimSpace(line) || code != api.OK || code2 != api.OK || !same(again, command) {
			t.Error(line, canonical, code, code2)
		}
		events, code := e.Step(command)
		want := ""
		for _, x := range events {
			want += console.Render(x)
		}
		if code != api.OK {
			want = "error " + strconv.Itoa(int(code)) + "\n"
			refused++
		}
		if got := c.Line(line); got != want {
			t.Errorf("%s: %q, want %q", line, got, want)
		}
		for _, q := range []string{"balances BANKA", "balances CB", "orders", "phase", "state P1 by BANKA", "state D1 by BANKA", "hash", "crash", "checkpoint", "crash", "nothing"} {
			if q == "checkpoint" && n%4 != 0 {
				continue
			}
			c.Line(q)
			if !c.Engine().Equal(e) {
				t.Fatal(line, q, "changes the state")
			}
		}
	}
	if refused != 2 {
		t.Error("refused commands", refused)
	}
	if v, code := audit.Full(c.Engine()); v.Kind != audit.None || code != api.OK {
		t.Error(audit.Name(v.Kind), v, code)
	}
}

// P56.5: checkpoints may be repeated.
func TestCheckpoints(t *testing.T) {
	c := open(t)
	answers(t, c, "checkpoint | ok\ncheckpoint | ok\ncrash | recovered 0\ntime 2000-01-01 02:30 | 1 2000-01-01 02:30 phase start 0\ncheckpoint | ok\ncrash | recovered 1\ncrash | recovered 1")
}

// The example of README.md.
func TestReadme(t *testing.T) {
	cal, _ := calendar.New([]int{5, 6}, nil)
	c, _ := console.New(cal, schedule.Default())
	answers, e := c.Run(`
	time 2000-01-03 07:00
	member BANKA active
	member BANKB active
	issue CASH by CB to BANKA 100.00
	pay P1 from BANKA to BANKB amount 60.00 day 2000-01-03
	state P1 by BANKA
	balances BANKA
`)
	if e != api.OK || !strings.HasSuffix(answers, "settled\nCASH free 40.00\n") {
		t.Error(answers, e)
	}
}
