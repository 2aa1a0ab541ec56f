package printer_test

import (
	"slices"
	"strings"
	"testing"

	"giro/api"
	"giro/lexer"
	"giro/message"
	"giro/parser"
	"giro/printer"
)

type (
	instruction = message.Instruction
	request     = message.Request
)

const isin = "US0378331005"

func submit(i instruction) request {
	return request{Op: message.Submit, Sender: i.Sender, Ref: i.Ref, Instruction: i}
}

func payment() instruction {
	return instruction{Ref: "P1", Kind: message.Payment, Sender: "BANKA", Counterparty: "BANKB", Asset: api.Cash, Amount: 150000, SettleDay: 9816}
}

func delivery() instruction {
	return instruction{Ref: "D1", Kind: message.DvP, Sender: "BANKA", Counterparty: "BANKB", Asset: isin, Quantity: 100, Amount: 5, TradeDay: 9811, SettleDay: 9816}
}

// samples returns requests of all forms with their canonical lines.
func samples() map[string]request {
	p, d, f, r := payment(), delivery(), delivery(), delivery()
	all := message.Link{Type: message.After, Ref: "Z"}
	p.Priority, p.Reserve, p.Hold, p.Links = 2, true, true, []message.Link{all, {Type: message.With, Ref: "A"}}
	d.Priority, d.Partial, d.MinLot, d.Hold = 1, true, 10, true
	f.Kind, f.Amount = message.Free, 0
	r.Sender, r.Counterparty, r.Side = "BANKB", "BANKA", message.Receive
	rf := r
	rf.Kind, rf.Amount = message.Free, 0
	pledge := instruction{Ref: "X", Kind: message.Pledge, Sender: "BANKA", Asset: isin, Quantity: 7, SettleDay: 0}
	release := pledge
	release.Kind = message.Release
	amend := func(a message.Amendment) request {
		return request{Op: message.Amend, Sender: "BANKA", Ref: "P1", Amendment: a}
	}
	return map[string]request{
		"pay P1 from BANKA to BANKB amount 1500.00 day 2026-11-16":                                                                        submit(payment()),
		"pay P1 from BANKA to BANKB amount 1500.00 day 2026-11-16 urgent after Z with A reserve hold":                                     submit(p),
		"deliver D1 from BANKA to BANKB isin US0378331005 quantity 100 against 0.05 trade 2026-11-11 day 2026-11-16":                      submit(delivery()),
		"deliver D1 from BANKA to BANKB isin US0378331005 quantity 100 against 0.05 trade 2026-11-11 day 2026-11-16 high partial 10 hold": submit(d),
		"deliver D1 from BANKA to BANKB isin US0378331005 quantity 100 free trade 2026-11-11 day 2026-11-16":                              submit(f),
		"receive D1 from BANKA to BANKB isin US0378331005 quantity 100 against 0.05 trade 2026-11-11 day 2026-11-16":                      submit(r),
		"receive D1 from BANKA to BANKB isin US0378331005 quantity 100 free trade 2026-11-11 day 2026-11-16":                              submit(rf),
		"pledge X by BANKA isin US0378331005 quantity 7 day 2000-01-01":                                                                   submit(pledge),
		"release X by BANKA isin US0378331005 quantity 7 day 2000-01-01":                                                                  submit(release),
		"cancel P1 by BANKA":            {Op: message.Cancel, Sender: "BANKA", Ref: "P1"},
		"hold P1 by BANKA":              {Op: message.Hold, Sender: "BANKA", Ref: "P1"},
		"resume P1 by BANKA":            {Op: message.Resume, Sender: "BANKA", Ref: "P1"},
		"amend P1 by BANKA amount 0.01": amend(message.Amendment{HasAmount: true, Amount: 1}),
		"amend P1 by BANKA normal":      amend(message.Amendment{HasPriority: true}),
		"amend P1 by BANKA whole":       amend(message.Amendment{HasPartial: true}),
		"amend P1 by BANKA amount 0.01 day 2000-01-02 urgent partial 3": amend(message.Amendment{HasAmount: true, Amount: 1, HasSettleDay: true, SettleDay: 1, HasPriority: true, Priority: 2, HasPartial: true, Partial: true, MinLot: 3}),
	}
}

// P20.1 P20.2 P20.5
func TestPrint(t *testing.T) {
	for line, r := range samples() {
		got, e := printer.Print(r)
		if got != line || e != api.OK {
			t.Errorf("Print = %q, %d, want %q", got, e, line)
		}
		back, _, e := parser.Parse(line)
		if !message.EqualRequests(back, r) || e != api.OK {
			t.Errorf("Parse(%q) = %+v, %d", line, back, e)
		}
		if c, e := printer.Canonical(" " + line + "\t# x"); c != line || e != api.OK {
			t.Errorf("Canonical = %q, %d", c, e)
		}
		if !printer.IsCanonical(line) || printer.IsCanonical(line+" ") {
			t.Errorf("IsCanonical(%q)", line)
		}
	}
	if s, e := printer.Print(request{Op: 9}); s != "" || e != api.ErrKind {
		t.Error(s, e)
	}
	bad := payment()
	bad.Amount = 0
	if s, e := printer.Print(submit(bad)); s != "" || e != api.ErrRange {
		t.Error(s, e)
	}
}

// P20.1 P20.5
func TestPrintAll(t *testing.T) {
	var l []request
	want := ""
	for line, r := range samples() {
		l = append(l, r)
		want += line + "\n"
	}
	text, e := printer.PrintAll(l)
	if text != want || e != api.OK {
		t.Error(text, e)
	}
	back, _ := parser.ParseAll(text)
	if len(back) != len(l) {
		t.Fatal(len(back))
	}
	for n, r := range l {
		if !message.EqualRequests(back[n].Request, r) {
			t.Error("request", n)
		}
	}
	many := make([]request, printer.MaxRequests)
	for n := range many {
		many[n] = l[0]
	}
	if text, e := printer.PrintAll(many); strings.Count(text, "\n") != printer.MaxRequests || e != api.OK {
		t.Error("many", e)
	}
	if text, e := printer.PrintAll(append(many, request{})); text != "" || e != api.ErrLimit {
		t.Error("too many", e)
	}
	if text, e := printer.PrintAll(append(l, request{}, request{Op: 9})); text != "" || e != api.ErrUnknown {
		t.Error("invalid", text, e)
	}
	if text, e := printer.PrintAll(nil); text != "" || e != api.OK {
		t.Error("none", text, e)
	}
}

// P20.2
func TestCanonical(t *testing.T) {
	for line, want := range map[string]string{
		"amend P1 by BANKA whole urgent day 2000-01-01 amount 1.00":                                                                                 "amend P1 by BANKA amount 1.00 day 2000-01-01 urgent whole",
		"pay P1 from BANKA to BANKB amount 1500.00 day 2026-11-16 normal":                                                                           "pay P1 from BANKA to BANKB amount 1500.00 day 2026-11-16",
		"deliver D1 from BANKA to BANKB isin US0378331005 quantity 100 free trade 2026-11-11 day 2026-11-16 hold with B after A partial 5 high # x": "deliver D1 from BANKA to BANKB isin US0378331005 quantity 100 free trade 2026-11-11 day 2026-11-16 high partial 5 with B after A hold",
	} {
		got, e := printer.Canonical(line)
		if got != want || e != api.OK || printer.IsCanonical(line) || !printer.IsCanonical(want) {
			t.Errorf("Canonical(%q) = %q, %d", line, got, e)
		}
	}
	for line, want := range map[string]api.Errno{"": api.ErrShort, "pay": api.ErrShort, "x": api.ErrSyntax, strings.Repeat("x", 2000): api.ErrLong} {
		if got, e := printer.Canonical(line); got != "" || e != want || printer.IsCanonical(line) {
			t.Errorf("Canonical(%.9q) = %q, %d", line, got, e)
		}
	}
}

// P20.5: the longest line.
func TestLongest(t *testing.T) {
	i := delivery()
	i.Ref, i.Sender, i.Counterparty, i.Quantity, i.Amount = "0123456789ABCDEF", "BANKAAAA", "BANKBBBB", api.MaxAmount, api.MaxAmount
	i.Partial, i.MinLot, i.Priority, i.Hold = true, api.MaxAmount, 2, true
	for n := range message.MaxLinks {
		i.Links = append(i.Links, message.Link{Type: message.After, Ref: "LINK-LINK-LINK-" + string(rune('A'+n))})
	}
	line, e := printer.Print(submit(i))
	if e != api.OK || len(line) > lexer.MaxLine || !printer.IsCanonical(line) {
		t.Error(len(line), e)
	}
}

// P20.3
func TestColumns(t *testing.T) {
	p, d, r := payment(), delivery(), delivery()
	p.Priority, p.Reserve, p.Hold = 2, true, true
	p.Links = []message.Link{{Type: message.With, Ref: "B"}, {Type: message.After, Ref: "A"}}
	d.Partial, d.MinLot = true, 10
	r.Ref, r.Kind, r.Amount, r.Side, r.Sender, r.Counterparty = "LONGER", message.Free, 0, message.Receive, "BANKBANK", "BANKA"
	pledge := instruction{Ref: "X", Kind: message.Pledge, Sender: "BANKA", Asset: isin, Quantity: 7}
	want := "" +
		"REF     KIND     SENDER    COUNTERPARTY  SIDE     ASSET         QUANTITY   AMOUNT  TRADE       DAY         PRIORITY  FLAGS         LINKS\n" +
		"P1      payment  BANKA     BANKB         deliver  CASH                 -  1500.00  -           2026-11-16  urgent    reserve,hold  with:B,after:A\n" +
		"D1      dvp      BANKA     BANKB         deliver  US0378331005       100     0.05  2026-11-11  2026-11-16  normal    partial:10    -\n" +
		"LONGER  free     BANKBANK  BANKA         receive  US0378331005       100        -  2026-11-11  2026-11-16  normal    -             -\n" +
		"X       pledge   BANKA     -             deliver  US0378331005         7        -  -           2000-01-01  normal    -             -\n"
	if got, e := printer.Columns([]instruction{p, d, r, pledge}); got != want || e != api.OK {
		t.Errorf("Columns = %d\n%s\nwant\n%s", e, got, want)
	}
	if got, e := printer.Columns(make([]instruction, printer.MaxRequests+1)); got != "" || e != api.ErrLimit {
		t.Error("too many", e)
	}
	if got, e := printer.Columns([]instruction{p, {}}); got != "" || e != api.ErrUnknown {
		t.Error("invalid", got, e)
	}
	many := slices.Repeat([]instruction{p}, printer.MaxRequests)
	if got, e := printer.Columns(many); strings.Count(got, "\n") != printer.MaxRequests+1 || e != api.OK {
		t.Error("many", e)
	}
}

// P20.4 P20.5
func TestDifference(t *testing.T) {
	base := delivery()
	base.Links = []message.Link{{Type: 0, Ref: "A"}, {Type: 0, Ref: "B"}}
	sets := []struct {
		name string
		set  func(i *instruction)
	}{
		{"Ref", func(i *instruction) { i.Ref = "" }}, {"Kind", func(i *instruction) { i.Kind = -1 }}, {"Sender", func(i *instruction) { i.Sender = "" }}, {"Counterparty", func(i *instruction) { i.Counterparty = "" }},
		{"Side", func(i *instruction) { i.Side = 9 }}, {"Asset", func(i *instruction) { i.Asset = "" }}, {"Quantity", func(i *instruction) { i.Quantity = 0 }}, {"Amount", func(i *instruction) { i.Amount = 0 }},
		{"TradeDay", func(i *instruction) { i.TradeDay = 0 }}, {"SettleDay", func(i *instruction) { i.SettleDay = 0 }}, {"Priority", func(i *instruction) { i.Priority = 9 }}, {"Partial", func(i *instruction) { i.Partial = true }},
		{"MinLot", func(i *instruction) { i.MinLot = 1 }}, {"Hold", func(i *instruction) { i.Hold = true }}, {"Reserve", func(i *instruction) { i.Reserve = true }}, {"Links", func(i *instruction) { slices.Reverse(i.Links) }},
	}
	var names []string
	all := base.Clone()
	for _, x := range sets {
		i := base.Clone()
		if len(printer.Difference(i, base)) != 0 {
			t.Error("difference of equal instructions")
		}
		x.set(&i)
		x.set(&all)
		names = append(names, x.name)
		if !slices.Equal(printer.Difference(i, base), []string{x.name}) || message.Equal(i, base) {
			t.Error(x.name, printer.Difference(i, base))
		}
	}
	if !slices.Equal(printer.Difference(base, all), names) {
		t.Error(printer.Difference(base, all))
	}
	if len(printer.Difference(instruction{}, instruction{Links: []message.Link{}})) != 0 {
		t.Error("nil and empty links")
	}
}

// Examples 1 and 2
func TestExamples(t *testing.T) {
	got, e := printer.Canonical("pay  P1 from BANKA to BANKB amount 1500.00 day 2026-11-16 hold urgent # salary")
	if got != "pay P1 from BANKA to BANKB amount 1500.00 day 2026-11-16 urgent hold" || e != api.OK {
		t.Error(got, e)
	}
	got, e = printer.Columns(nil)
	if got != "REF  KIND  SENDER  COUNTERPARTY  SIDE  ASSET  QUANTITY  AMOUNT  TRADE  DAY  PRIORITY  FLAGS  LINKS\n" || e != api.OK {
		t.Error(got, e)
	}
}
