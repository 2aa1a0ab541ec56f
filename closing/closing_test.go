package closing_test

import (
	"slices"
	"strconv"
	"testing"

	"giro/account"
	"giro/api"
	"giro/calendar"
	"giro/closing"
	"giro/collateral"
	"giro/credit"
	"giro/limit"
	"giro/matching"
	"giro/matchpool"
	"giro/message"
	"giro/settlement"
)

const (
	x      = "US0378331005"
	y      = "CH0038863350"
	monday = 9816
)

// prices values units by asset; those without a price have an error.
type prices map[string]int64

func (p prices) Value(_, asset string, q int64) (int64, api.Errno) {
	if p[asset] == 0 {
		return 0, api.ErrStale
	}
	return p[asset] * q, api.OK
}

func system(t *testing.T) closing.System {
	t.Helper()
	a, l := account.New(), limit.New()
	d, e1 := credit.New(a, prices{x: 8, y: 3})
	o, e2 := settlement.New(a, l, d)
	p, e3 := matchpool.New(0)
	c, e4 := calendar.New([]int{5, 6}, nil)
	if e1 != api.OK || e2 != api.OK || e3 != api.OK || e4 != api.OK {
		t.Fatal(e1, e2, e3, e4)
	}
	return closing.System{Accounts: a, Limits: l, Desk: d, Orders: o, Pool: p, Calendar: c}
}

func want(t *testing.T, what string, got, e api.Errno) {
	t.Helper()
	if got != e {
		t.Errorf("%s: error %d, want %d", what, got, e)
	}
}

func cash(owner string) api.Account { return api.Account{Owner: owner, Asset: api.Cash} }

func pay(ref, from, to string, amount int64, day int) message.Instruction {
	return message.Instruction{Ref: ref, Kind: message.Payment, Sender: from, Counterparty: to, Asset: api.Cash, Amount: amount, SettleDay: day}
}

// P48.1
func TestCheck(t *testing.T) {
	want(t, "Check", system(t).Check(), api.OK)
	for n, change := range []func(s *closing.System){func(s *closing.System) { s.Accounts = nil }, func(s *closing.System) { s.Limits = nil }, func(s *closing.System) { s.Desk = nil }, func(s *closing.System) { s.Orders = nil }, func(s *closing.System) { s.Pool = nil }, func(s *closing.System) { s.Calendar = nil }} {
		s := system(t)
		change(&s)
		a, e1 := s.Return()
		b, e2 := s.Repay()
		c, e3 := s.Unwind()
		d, f, e4 := s.Expire(-1)
		g, e5 := s.Close(-1)
		if len(a)+len(b)+len(c)+len(d)+len(f)+len(g.Events)+len(g.Failed) != 0 || s.Clean() || len(s.Balances("CB")) != 0 {
			t.Error("results", n)
		}
		for _, e := range []api.Errno{s.Check(), e1, e2, e3, e4, e5} {
			want(t, "part "+strconv.Itoa(n), e, api.ErrArgument)
		}
	}
}

// P48.2
func TestReturn(t *testing.T) {
	s := system(t)
	for _, m := range []string{"BANKB", "BANKA", "BANKC"} {
		s.Accounts.Issue("CB", api.Cash, m, 50)
	}
	s.Accounts.Reserve("BANKB", 20)
	s.Accounts.Reserve("BANKA", 10)
	if s.Clean() {
		t.Error("reserved cash is clean")
	}
	l, e := s.Return()
	if !slices.Equal(l, []api.Posting{{Account: cash("BANKA"), Delta: 10}, {Account: cash("BANKB"), Delta: 20}}) || e != api.OK || s.Accounts.Balance(cash("BANKB")) != 50 || !s.Clean() {
		t.Error(l, e)
	}
	if l, e := s.Return(); len(l) != 0 || e != api.OK {
		t.Error("again", l, e)
	}
}

// P48.3
func TestRepay(t *testing.T) {
	s := system(t)
	for _, m := range []string{"BANKB", "BANKA"} {
		s.Accounts.Issue("ISSUER", x, m, 2)
		s.Accounts.Issue("ISSUER", y, m, 9)
		s.Desk.Pledge(m, x, 2)
		s.Desk.Pledge(m, y, 9)
	}
	s.Accounts.Transfer(api.Cash, "BANKA", "BANKC", 35)
	s.Accounts.Transfer(api.Cash, "BANKB", "BANKC", 43)
	// A member whose pool has been lost keeps the line that it uses.
	s.Accounts.SetLine("BANKD", 7)
	s.Accounts.Transfer(api.Cash, "BANKD", "BANKC", 7)
	l, e := s.Repay()
	seized := func(b, c int64) []collateral.Position {
		l := []collateral.Position{{Asset: y, Quantity: b}}
		if c > 0 {
			l = append(l, collateral.Position{Asset: x, Quantity: c})
		}
		return l
	}
	same := func(a, b closing.Default) bool {
		return a.Member == b.Member && a.Amount == b.Amount && slices.Equal(a.Seized, b.Seized)
	}
	if !slices.EqualFunc(l, []closing.Default{{Member: "BANKA", Amount: 35, Seized: seized(9, 1)}, {Member: "BANKB", Amount: 43, Seized: seized(9, 2)}, {Member: "BANKD", Amount: 7}}, same) || e != api.OK {
		t.Error(l, e)
	}
	for m, line := range map[string]int64{"BANKA": 8, "BANKB": 0, "BANKD": 0} {
		if s.Accounts.Balance(cash(m)) != 0 || s.Accounts.Line(m) != line {
			t.Error(m, s.Accounts.Balance(cash(m)), s.Accounts.Line(m))
		}
	}
	if s.Accounts.Outstanding(api.Cash) != 85 || s.Accounts.Balance(api.Account{Owner: "CB", Asset: y}) != 18 {
		t.Error("the central bank")
	}
	// Without defaults, lines are adapted as well.
	s.Accounts.SetLine("BANKC", 500)
	if l, e := s.Repay(); len(l) != 0 || e != api.OK || s.Accounts.Line("BANKC") != 0 {
		t.Error("no default", l, e, s.Accounts.Line("BANKC"))
	}
}

// P48.1 P48.3: an error stops a step, and what was done stays done.
func TestRepayError(t *testing.T) {
	s := system(t)
	for _, m := range []string{"BANKA", "BANKB"} {
		s.Accounts.Issue("ISSUER", x, m, 5)
		s.Desk.Pledge(m, x, 5)
		s.Accounts.Transfer(api.Cash, m, "BANKC", 10)
	}
	// The pledged account of BANKB no longer has what its pool says.
	s.Accounts.Unpledge("BANKB", x, 5)
	l, e := s.Repay()
	if len(l) != 1 || l[0].Member != "BANKA" || e != api.ErrFunds || s.Accounts.Balance(cash("BANKA")) != 0 || s.Accounts.Balance(cash("BANKB")) != -10 {
		t.Error(l, e)
	}
	r, e := s.Close(monday)
	if len(r.Defaults) != 0 || e != api.ErrFunds || s.Accounts.Balance(cash("BANKB")) != -10 {
		t.Error("Close", r, e)
	}
}

// P48.4
func TestUnwind(t *testing.T) {
	s := system(t)
	for _, m := range []string{"BANKB", "BANKA"} {
		s.Accounts.Issue("ISSUER", x, m, 5)
		s.Desk.SetAuto(m, true)
		s.Desk.Raise(m, 10, nil)
		s.Desk.Raise(m, 8, nil)
	}
	s.Accounts.Issue("ISSUER", y, "BANKC", 5)
	s.Desk.Pledge("BANKC", y, 5)
	l, e := s.Unwind()
	same := func(a, b closing.Release) bool { return a.Member == b.Member && slices.Equal(a.Positions, b.Positions) }
	positions := []collateral.Position{{Asset: x, Quantity: 1}, {Asset: x, Quantity: 2}}
	if !slices.EqualFunc(l, []closing.Release{{Member: "BANKA", Positions: positions}, {Member: "BANKB", Positions: positions}}, same) || e != api.OK {
		t.Error(l, e)
	}
}

// P48.5
func TestExpire(t *testing.T) {
	s := system(t)
	submit := func(seq int, i message.Instruction) {
		t.Helper()
		want(t, "payment", s.Orders.SubmitPayment(i, seq, nil), api.OK)
	}
	trade := func(ref string, seq, day int) {
		t.Helper()
		a := matching.Trade{Kind: message.Free, Deliverer: "BANKA", Receiver: "BANKB", Asset: x, Quantity: 5, SettleDay: day, Refs: [2]string{ref, ref}}
		i, j := a.Instructions()
		s.Pool.Submit(i)
		s.Pool.Submit(j)
		want(t, "trade", s.Orders.SubmitTrade(a, seq, nil, seq == 4), api.OK)
	}
	submit(1, pay("P1", "BANKA", "BANKB", 5, monday+1))
	submit(2, pay("P2", "BANKA", "BANKB", 5, monday))
	urgent := pay("P3", "BANKA", "BANKB", 5, monday-3)
	urgent.Priority = 2
	submit(3, urgent)
	trade("T4", 4, monday-14)
	trade("T5", 5, monday-13)
	want(t, "not in the pool", s.Orders.SubmitTrade(matching.Trade{Kind: message.Free, Deliverer: "BANKC", Receiver: "BANKB", Asset: x, Quantity: 5, SettleDay: 5, Refs: [2]string{"Z", "Z"}}, 6, nil, false), api.OK)
	for n, day := range []int{monday + 1, monday, monday - 9} {
		s.Pool.Submit(message.Instruction{Ref: "U" + strconv.Itoa(n), Kind: message.Free, Sender: "BANKA", Counterparty: "BANKB", Asset: x, Quantity: 1, SettleDay: day})
	}
	for _, day := range []int{-1, 73049} {
		if a, b, e := s.Expire(day); len(a)+len(b) != 0 || e != api.ErrRange {
			t.Error("day", day, e)
		}
	}
	a, b, e := s.Expire(monday)
	if !slices.Equal(a, []string{"BANKA/P3", "BANKA/P2", "BANKA/T4", "BANKC/Z"}) || len(b) != 2 || b[0].Ref != "U1" || b[1].Ref != "U2" || e != api.OK {
		t.Error(a, b, e)
	}
	if !slices.Equal(s.Orders.Orders(), []string{"BANKA/P1", "BANKA/T5"}) || len(s.Pool.Trades()) != 1 || len(s.Pool.Waiting()) != 1 {
		t.Error("what is left", s.Orders.Orders())
	}
}

// P48.6 P48.8
func TestClose(t *testing.T) {
	s := system(t)
	s.Accounts.Issue("CB", api.Cash, "BANKA", 30)
	s.Accounts.Reserve("BANKA", 10)
	s.Accounts.Issue("ISSUER", x, "BANKB", 10)
	s.Desk.SetAuto("BANKB", true)
	s.Limits.SetMultilateral("BANKA", 100)
	s.Orders.SubmitPayment(pay("P1", "BANKA", "BANKC", 20, monday), 1, nil)
	s.Orders.SubmitPayment(pay("P2", "BANKA", "BANKC", 7, monday), 2, nil)
	s.Orders.SubmitPayment(pay("P3", "BANKB", "BANKC", 12, monday), 3, nil)
	s.Orders.SubmitPayment(pay("P4", "BANKA", "BANKC", 99, monday), 4, nil)
	if _, e := s.Close(73049); e != api.ErrRange {
		t.Error(e)
	}
	if r, e := s.Close(monday - 1); e != api.ErrDate || len(r.Events) != 0 || s.Clean() {
		t.Error(e)
	}
	r, e := s.Close(monday)
	var ids []string
	for _, x := range r.Events {
		ids = append(ids, x.Id)
	}
	if e != api.OK || !slices.Equal(ids, []string{"BANKA/P1", "BANKB", "BANKB/P3", "BANKA/P2"}) || len(r.Returned) != 1 || len(r.Defaults) != 1 || r.Defaults[0].Member != "BANKB" || r.Defaults[0].Amount != 12 || len(r.Released) != 0 || !slices.Equal(r.Failed, []string{"BANKA/P4"}) {
		t.Error(r, e)
	}
	if !s.Clean() || s.Limits.Net("BANKA", "BANKC") != 0 || len(s.Limits.Limits()) != 1 || s.Accounts.Line("BANKB") != s.Desk.Value("BANKB") || s.Accounts.Outstanding(api.Cash) != 42 {
		t.Error("after the closing", s.Accounts.Line("BANKB"))
	}
	r, e = s.Close(monday)
	if e != api.OK || len(r.Events)+len(r.Returned)+len(r.Defaults)+len(r.Failed)+len(r.Unmatched) != 0 {
		t.Error("again", r, e)
	}
	s.Limits.Record([]limit.Flow{{From: "BANKA", To: "BANKB", Amount: 5}})
	if s.Clean() {
		t.Error("net amounts are clean")
	}
}

// P48.7
func TestBalances(t *testing.T) {
	s := system(t)
	s.Accounts.Issue("CB", api.Cash, "BANKA", 30)
	s.Accounts.Issue("ISSUER", x, "BANKA", 10)
	s.Accounts.Issue("ISSUER", y, "BANKA", 10)
	s.Accounts.Pledge("BANKA", x, 4)
	s.Accounts.Earmark("BANKA", x, 6)
	s.Accounts.Reserve("BANKA", 5)
	acc := func(kind int, asset string) api.Account { return api.Account{Owner: "BANKA", Kind: kind, Asset: asset} }
	want := []api.Posting{{Account: acc(api.Free, api.Cash), Delta: 25}, {Account: acc(api.Reserved, api.Cash), Delta: 5}, {Account: acc(api.Free, y), Delta: 10}, {Account: acc(api.Earmarked, x), Delta: 6}, {Account: acc(api.Pledged, x), Delta: 4}}
	if l := s.Balances("BANKA"); !slices.Equal(l, want) {
		t.Error(l)
	}
	if len(s.Balances("BANKB")) != 0 || len(s.Balances("CB")) != 1 {
		t.Error("others")
	}
	s.Accounts.Unreserve("BANKA", 5)
	s.Accounts.SetLine("BANKA", 50)
	s.Accounts.Transfer(api.Cash, "BANKA", "BANKB", 31)
	if s.Clean() {
		t.Error("used credit is clean")
	}
}

// Examples 1 and 2
func TestExamples(t *testing.T) {
	s := system(t)
	s.Accounts.Issue("ISSUER", y, "BANKA", 9)
	s.Accounts.Issue("ISSUER", x, "BANKA", 2)
	s.Desk.Pledge("BANKA", y, 9)
	s.Desk.Pledge("BANKA", x, 2)
	s.Accounts.Transfer(api.Cash, "BANKA", "BANKB", 35)
	l, e := s.Repay()
	if e != api.OK || len(l) != 1 || !slices.Equal(l[0].Seized, []collateral.Position{{Asset: y, Quantity: 9}, {Asset: x, Quantity: 1}}) || s.Accounts.Line("BANKA") != 8 {
		t.Error(l, e)
	}
	s.Orders.SubmitTrade(matching.Trade{Kind: message.Free, Deliverer: "BANKA", Receiver: "BANKB", Asset: x, Quantity: 5, SettleDay: monday, Refs: [2]string{"T", "T"}}, 1, nil, false)
	early, _, _ := s.Expire(monday + 13)
	late, _, _ := s.Expire(monday + 14)
	if len(early) != 0 || !slices.Equal(late, []string{"BANKA/T"}) {
		t.Error(early, late)
	}
}

// P48.2 P48.3 P48.4 P48.7: the least amounts count, and members are taken in order.
func TestLeast(t *testing.T) {
	s := system(t)
	members := []string{"BANKC", "BANKE", "BANKA", "BANKD", "BANKB"}
	for _, m := range members {
		want(t, "cash", s.Accounts.Issue("CB", api.Cash, m, 1), api.OK)
		want(t, "reserve", s.Accounts.Reserve(m, 1), api.OK)
		want(t, "units", s.Accounts.Issue("ISSUER", x, m, 1), api.OK)
		want(t, "pledge", s.Desk.Pledge(m, x, 1), api.OK)
		want(t, "use", s.Accounts.Transfer(api.Cash, m, "USER", 1), api.OK)
	}
	if s.Clean() {
		t.Error("clean")
	}
	defaults, e := s.Repay()
	var repaid []string
	for _, d := range defaults {
		repaid = append(repaid, d.Member)
		if d.Amount != 1 || !slices.Equal(d.Seized, []collateral.Position{{Asset: x, Quantity: 1}}) {
			t.Error("default", d)
		}
	}
	slices.Sort(members)
	if !slices.Equal(repaid, members) || e != api.OK || s.Clean() {
		t.Error("Repay", repaid, e)
	}
	returned, e := s.Return()
	if len(returned) != 5 || returned[4] != (api.Posting{Account: cash("BANKE"), Delta: 1}) || e != api.OK || !s.Clean() {
		t.Error("Return", returned, e)
	}
	want(t, "units", s.Accounts.Issue("ISSUER", y, "BANKF", 1), api.OK)
	want(t, "auto", s.Desk.SetAuto("BANKF", true), api.OK)
	_, e = s.Desk.Raise("BANKF", 1, nil)
	want(t, "raise", e, api.OK)
	if l, e := s.Unwind(); len(l) != 1 || l[0].Member != "BANKF" || !slices.Equal(l[0].Positions, []collateral.Position{{Asset: y, Quantity: 1}}) || e != api.OK {
		t.Error("Unwind", l, e)
	}
}
