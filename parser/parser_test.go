package parser_test

import (
	"slices"
	"strings"
	"testing"

	"giro/api"
	"giro/lexer"
	"giro/message"
	"giro/parser"
)

type (
	instruction = message.Instruction
	request     = message.Request
)

const isin = "US0378331005"

// submit is the request that submits an instruction.
func submit(i instruction) request {
	return request{Op: message.Submit, Sender: i.Sender, Ref: i.Ref, Instruction: i}
}

func payment() instruction {
	return instruction{Ref: "P1", Kind: message.Payment, Sender: "BANKA", Counterparty: "BANKB", Asset: api.Cash, Amount: 150000, SettleDay: 9816}
}

const pay = "pay P1 from BANKA to BANKB amount 1500.00 day 2026-11-16"

func expect(t *testing.T, line string, want request) {
	t.Helper()
	got, at, e := parser.Parse(line)
	if !message.EqualRequests(got, want) || at != 0 || e != api.OK {
		t.Errorf("Parse(%q) = %+v, %d, %d, want %+v", line, got, at, e, want)
	}
}

func fails(t *testing.T, line string, at int, want api.Errno) {
	t.Helper()
	got, gotAt, e := parser.Parse(line)
	if !message.EqualRequests(got, request{}) || gotAt != at || e != want {
		t.Errorf("Parse(%q) = %+v, %d, %d, want %d, %d", line, got, gotAt, e, at, want)
	}
}

// P19.1
func TestForms(t *testing.T) {
	expect(t, pay, submit(payment()))
	delivery := instruction{Ref: "1", Kind: message.DvP, Sender: "BANKA", Counterparty: "BANKB", Asset: isin, Quantity: 100, Amount: 1, TradeDay: 0, SettleDay: 73048}
	expect(t, "deliver 1 from BANKA to BANKB isin US0378331005 quantity 100 against 0.01 trade 2000-01-01 day 2199-12-31", submit(delivery))
	mirror := delivery
	mirror.Ref, mirror.Sender, mirror.Counterparty, mirror.Side = "2026-11-16", "BANKB", "BANKA", message.Receive
	expect(t, "receive 2026-11-16 from BANKA to BANKB isin US0378331005 quantity 100 against 0.01 trade 2000-01-01 day 2199-12-31", submit(mirror))
	free := delivery
	free.Kind, free.Amount = message.Free, 0
	expect(t, "deliver 1 from BANKA to BANKB isin US0378331005 quantity 100 free trade 2000-01-01 day 2199-12-31", submit(free))
	free = mirror
	free.Kind, free.Amount = message.Free, 0
	expect(t, "receive 2026-11-16 from BANKA to BANKB isin US0378331005 quantity 100 free trade 2000-01-01 day 2199-12-31", submit(free))
	pledge := instruction{Ref: "X-1", Kind: message.Pledge, Sender: "BANKA", Asset: isin, Quantity: api.MaxAmount, SettleDay: 1}
	expect(t, "pledge X-1 by BANKA isin US0378331005 quantity 1000000000000000 day 2000-01-02", submit(pledge))
	pledge.Kind = message.Release
	expect(t, "release X-1 by BANKA isin US0378331005 quantity 1000000000000000 day 2000-01-02", submit(pledge))
	for op, word := range map[int]string{message.Cancel: "cancel", message.Hold: "hold", message.Resume: "resume"} {
		expect(t, word+" P1 by BANKA", request{Op: op, Sender: "BANKA", Ref: "P1"})
	}
}

// P19.1 P19.4
func TestOptions(t *testing.T) {
	i := payment()
	for priority, word := range []string{"normal", "high", "urgent"} {
		i.Priority = priority
		expect(t, pay+" "+word, submit(i))
	}
	i.Reserve, i.Hold = true, true
	i.Links = []message.Link{{Type: message.With, Ref: "7"}, {Type: message.After, Ref: "A"}, {Type: message.With, Ref: "2026-11-16"}}
	expect(t, pay+" urgent reserve hold with 7 after A with 2026-11-16", submit(i))
	expect(t, "\t"+pay+"  with 7 hold after A\treserve with 2026-11-16 urgent # hold", submit(i))
	d := instruction{Ref: "D", Kind: message.Free, Sender: "BANKA", Counterparty: "BANKB", Asset: isin, Quantity: 100, Partial: true, MinLot: 100, Hold: true}
	expect(t, "deliver D from BANKA to BANKB isin US0378331005 quantity 100 free trade 2000-01-01 day 2000-01-01 hold partial 100", submit(d))
}

// P19.1
func TestChanges(t *testing.T) {
	r := request{Op: message.Amend, Sender: "BANKA", Ref: "P1"}
	r.Amendment = message.Amendment{HasAmount: true, Amount: 250}
	expect(t, "amend P1 by BANKA amount 2.50", r)
	r.Amendment = message.Amendment{HasSettleDay: true, SettleDay: 9816}
	expect(t, "amend P1 by BANKA day 2026-11-16", r)
	r.Amendment = message.Amendment{HasPriority: true}
	expect(t, "amend P1 by BANKA normal", r)
	r.Amendment = message.Amendment{HasPartial: true}
	expect(t, "amend P1 by BANKA whole", r)
	r.Amendment = message.Amendment{HasPartial: true, Partial: true, MinLot: 5, HasPriority: true, Priority: 2, HasAmount: true, Amount: 1, HasSettleDay: true, SettleDay: 0}
	expect(t, "amend P1 by BANKA day 2000-01-01 partial 5 amount 0.01 urgent", r)
	r.Amendment.Priority = 1
	expect(t, "amend P1 by BANKA high amount 0.01 partial 5 day 2000-01-01", r)
}

// P19.1: every prefix of a line that is complete only as a whole is short.
func TestShort(t *testing.T) {
	fails(t, "", 0, api.ErrShort)
	fails(t, "  # pay", 0, api.ErrShort)
	for _, line := range []string{pay, "deliver D from BANKA to BANKB isin US0378331005 quantity 100 against 1.00 trade 2000-01-01 day 2000-01-01", "pledge P by BANKA isin US0378331005 quantity 1 day 2000-01-01", "cancel P by BANKA", "amend P by BANKA amount 1.00"} {
		words := strings.Fields(line)
		for n := 1; n < len(words); n++ {
			part := strings.Join(words[:n], " ")
			fails(t, " "+part+"  # x", len(part)+1, api.ErrShort)
		}
	}
	fails(t, pay+" with", len(pay)+5, api.ErrShort)
	fails(t, pay+" partial", len(pay)+8, api.ErrShort)
}

// P19.1
func TestWrongTokens(t *testing.T) {
	samples := map[int]string{lexer.Word: "zzz", lexer.Name: "-", lexer.Number: "7", lexer.Decimal: "1.00", lexer.Date: "2000-01-02"}
	for _, line := range []string{pay + " partial 5 with R after 3", "receive D from BANKA to BANKB isin US0378331005 quantity 100 against 1.00 trade 2000-01-01 day 2000-01-01 hold", "release P by BANKA isin US0378331005 quantity 1 day 2000-01-01", "resume P by BANKA", "amend P by BANKA amount 1.00 day 2000-01-01 partial 5 high"} {
		tokens, _, _ := lexer.Tokenize(line)
		for n, token := range tokens {
			isRef := n == 1 || token.Text == "R" || token.Text == "3"
			for kind, text := range samples {
				var allowed bool
				switch {
				case isRef:
					allowed = kind == lexer.Name || kind == lexer.Number || kind == lexer.Date
				case kind != lexer.Word:
					allowed = kind == token.Kind
				}
				if allowed {
					continue
				}
				changed := slices.Clone(tokens)
				changed[n] = lexer.Token{Kind: kind, Text: text}
				joined, _ := lexer.Join(changed)
				fails(t, joined, token.At, api.ErrSyntax)
			}
		}
	}
}

// P19.1
func TestErrors(t *testing.T) {
	fails(t, "pay ? from", 4, api.ErrSyntax)
	fails(t, "nonsense "+strings.Repeat("x", 33), 9, api.ErrLong)
	fails(t, strings.Repeat("x ", 600), lexer.MaxLine, api.ErrLong)
	fails(t, "cancel P1 by BANKA now", 19, api.ErrSyntax)
	fails(t, "cancel P1 by BANKA 7", 19, api.ErrSyntax)
	fails(t, "pledge P by BANKA isin US0378331005 quantity 1 day 2000-01-01 hold", 62, api.ErrSyntax)
	fails(t, "pay 0123456789ABCDEFG from", 4, api.ErrUnknown)
	fails(t, "pay P1 from BAN to", 12, api.ErrUnknown)
	fails(t, "pay P1 from BANKA to B-NKB", 21, api.ErrUnknown)
	fails(t, "pay P1 from CB to BANKB", 12, api.ErrUnknown)
	fails(t, "release P by BANKABCDE", 13, api.ErrUnknown)
	fails(t, "release P by BANKA isin US0378331006 quantity", 24, api.ErrUnknown)
	fails(t, pay+" with 01234567-89ABCDEFG", len(pay)+6, api.ErrUnknown)
	fails(t, "pay P1 from BANKA to BANKB amount 0.00 day", 34, api.ErrRange)
	fails(t, "pay P1 from BANKA to BANKB amount -1.00 day", 34, api.ErrRange)
	fails(t, "pay P1 from BANKA to BANKB amount 10000000000000.01 day", 34, api.ErrRange)
	fails(t, "pay P1 from BANKA to BANKB amount 99999999999999999999999999999.00 day", 34, api.ErrRange)
	fails(t, "release P by BANKA isin US0378331005 quantity 0 day", 46, api.ErrRange)
	fails(t, "release P by BANKA isin US0378331005 quantity 1000000000000001 day", 46, api.ErrRange)
	fails(t, "release P by BANKA isin US0378331005 quantity 1 day 2026-02-29 x", 52, api.ErrDate)
	fails(t, "release P by BANKA isin US0378331005 quantity 1 day 1999-12-31", 52, api.ErrDate)
	fails(t, pay+" partial 0", len(pay)+9, api.ErrRange)
	fails(t, "amend P by BANKA", 16, api.ErrShort)
	fails(t, "amend P by BANKA hold", 17, api.ErrSyntax)
	fails(t, "amend P by BANKA with X", 17, api.ErrSyntax)
	fails(t, pay+" whole", len(pay)+1, api.ErrSyntax)
	fails(t, pay+" amount 1.00", len(pay)+1, api.ErrSyntax)
}

// P19.1
func TestDuplicates(t *testing.T) {
	for _, options := range []string{"high", "normal", "partial 5", "hold", "reserve"} {
		for _, more := range []string{"high", "urgent", "partial 5", "hold", "reserve"} {
			line := pay + " " + options + " with X "
			same := strings.Fields(options)[0] == strings.Fields(more)[0] || strings.Contains("high normal", options) && strings.Contains("high urgent", more)
			if same {
				fails(t, line+more+" 7 ", len(line), api.ErrDuplicate)
			}
		}
	}
	base := "amend P by BANKA "
	for _, x := range [][2]string{{"amount 1.00", "amount"}, {"day 2000-01-01", "day"}, {"high", "normal"}, {"partial 5", "whole"}, {"whole", "partial x"}, {"whole", "whole"}} {
		fails(t, base+x[0]+" "+x[1], len(base+x[0])+1, api.ErrDuplicate)
	}
}

// P19.1: the request is checked at last.
func TestCheckedRequest(t *testing.T) {
	fails(t, "  pay P1 from BANKA to BANKA amount 1.00 day 2026-11-16", 2, api.ErrArgument)
	fails(t, pay+" partial 5", 0, api.ErrFormat)
	fails(t, pay+" high reserve", 0, api.ErrFormat)
	fails(t, pay+" with X after X", 0, api.ErrDuplicate)
	fails(t, pay+" with P1", 0, api.ErrCycle)
	fails(t, pay+strings.Repeat(" with X", 9), 0, api.ErrLimit)
	fails(t, "deliver D from BANKA to BANKB isin US0378331005 quantity 1 free trade 2000-01-02 day 2000-01-01", 0, api.ErrDate)
	fails(t, "deliver D from BANKA to BANKB isin US0378331005 quantity 1 free trade 2000-01-01 day 2000-01-01 partial 2", 0, api.ErrRange)
}

// P19.2
func TestParseAll(t *testing.T) {
	text := pay + "\n\n# comment\n  cancel P1 by BANKA # x\nnonsense\n hold P1 by"
	l, e := parser.ParseAll(text)
	if e != api.OK || len(l) != 4 {
		t.Fatal(l, e)
	}
	for n, want := range []parser.Result{
		{1, 0, submit(payment()), api.OK}, {4, 0, request{Op: message.Cancel, Sender: "BANKA", Ref: "P1"}, api.OK}, {5, 0, request{}, api.ErrSyntax}, {6, 10, request{}, api.ErrShort},
	} {
		got := l[n]
		if got.Line != want.Line || got.At != want.At || got.Error != want.Error || !message.EqualRequests(got.Request, want.Request) {
			t.Errorf("result %d: %+v", n, got)
		}
	}
	if l, e := parser.ParseAll(strings.Repeat("\n", 1<<20)); len(l) != 0 || e != api.OK {
		t.Error("longest text", len(l), e)
	}
	if l, e := parser.ParseAll(strings.Repeat("x", 1<<20+1)); len(l) != 0 || e != api.ErrLong {
		t.Error("too long", len(l), e)
	}
}

// P19.3
func TestNumbers(t *testing.T) {
	for _, x := range []struct {
		s    string
		want int64
		e    api.Errno
	}{
		{"0.01", 1, api.OK}, {"1500.00", 150000, api.OK}, {"10000000000000.00", api.MaxAmount, api.OK}, {"10000000000000.01", 0, api.ErrRange}, {"0.00", 0, api.ErrRange}, {"-0.01", 0, api.ErrRange},
		{"", 0, api.ErrSyntax}, {"1", 0, api.ErrSyntax}, {"1.0", 0, api.ErrSyntax}, {"-0.00", 0, api.ErrSyntax}, {strings.Repeat("9", 40) + ".00", 0, api.ErrSyntax}, {strings.Repeat("9", 29) + ".00", 0, api.ErrRange},
	} {
		if got, e := parser.ParseAmount(x.s); got != x.want || e != x.e {
			t.Errorf("ParseAmount(%q) = %d, %d", x.s, got, e)
		}
	}
	for _, x := range []struct {
		s    string
		want int64
		e    api.Errno
	}{
		{"1", 1, api.OK}, {"1000000000000000", api.MaxAmount, api.OK}, {"1000000000000001", 0, api.ErrRange}, {"9999999999999999", 0, api.ErrRange}, {"0", 0, api.ErrRange},
		{"", 0, api.ErrSyntax}, {"01", 0, api.ErrSyntax}, {"-1", 0, api.ErrSyntax}, {"10000000000000000", 0, api.ErrSyntax}, {"1.00", 0, api.ErrSyntax},
	} {
		if got, e := parser.ParseQuantity(x.s); got != x.want || e != x.e {
			t.Errorf("ParseQuantity(%q) = %d, %d", x.s, got, e)
		}
	}
}

// Example 1
func TestExample(t *testing.T) {
	i := payment()
	i.Priority = 2
	expect(t, "pay P1 from BANKA to BANKB amount 1500.00 day 2026-11-16 urgent", submit(i))
	fails(t, "pay P1 from BANKA to", 20, api.ErrShort)
}
