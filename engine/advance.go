package engine

import (
	"slices"
	"strconv"

	"giro/api"
	"giro/closing"
	"giro/corpaction"
	"giro/date"
	"giro/fail"
	"giro/history"
	"giro/lifecycle"
	"giro/message"
	"giro/schedule"
)

// advance advances the time, with everything that happens at the beginnings of phases.
func (s *state) advance(to api.Clock) api.Errno {
	if date.CompareClock(to, s.clock) < 0 {
		return api.ErrStale
	}
	changes, code := s.schedule.Changes(s.clock, to, s.calendar)
	if code != api.OK {
		return code
	}
	for _, c := range changes {
		s.clock = c.Clock
		s.report(PhaseBegun, schedule.PhaseName(c.Phase), 0, nil)
		switch c.Phase {
		case schedule.Start:
			s.startDay(c.Clock.Day)
		case schedule.Realtime:
			s.run()
		case schedule.Close:
			s.closeDay(c.Clock.Day)
		}
	}
	s.clock = to
	return api.OK
}

// startDay begins a business day.
func (s *state) startDay(day int) {
	s.revalue()
	s.payDue(day)
	for _, id := range s.orders.Orders() {
		if slices.Contains(s.open[id].holders, waitingDay) && s.settleDay(id) <= day {
			s.release(id, waitingDay)
			s.report(Changed, id, 0, nil)
		}
	}
}

// closeDay ends a business day.
func (s *state) closeDay(day int) {
	before := s.balances()
	first := len(s.events)
	r, _ := s.system().Close(day)
	s.reportClosing(r)
	s.reportOther(before, s.events[first:])
	for _, id := range s.register.ToRecord(day) {
		s.record(id, day)
	}
	s.payDue(day)
	s.penalize(day)
}

// reportClosing reports and books what a closing has done.
func (s *state) reportClosing(r closing.Report) {
	for _, p := range r.Returned {
		owner := p.Account.Owner
		s.reportBooked(Released, owner, p.Delta, movement(accountOf(owner, api.Reserved, api.Cash), p.Account, p.Delta))
	}
	s.reportRun(r.Events)
	for _, d := range r.Defaults {
		postings := movements(d.Seized, d.Member, api.Pledged, centralBank, api.Free)
		postings = append(postings, movement(accountOf(centralBank, api.Issued, api.Cash), accountOf(d.Member, api.Free, api.Cash), d.Amount)...)
		s.reportBooked(Seized, d.Member, d.Amount, postings)
	}
	for _, x := range r.Released {
		s.reportBooked(Released, x.Member, 0, movements(x.Positions, x.Member, api.Pledged, x.Member, api.Free))
	}
	for _, id := range r.Failed {
		s.report(Failed, id, 0, nil)
		s.finish(id, lifecycle.Failed)
	}
	for _, i := range r.Unmatched {
		key := keyOf(i.Sender, i.Ref)
		s.report(Failed, key, 0, nil)
		s.states[key] = lifecycle.Failed
	}
}

// balances returns all balances.
func (s *state) balances() map[api.Account]int64 {
	l := map[api.Account]int64{}
	for k, balance := range s.accounts.All() {
		l[k] = balance
	}
	return l
}

// reportOther reports and books what has changed since balances were taken otherwise than by the postings of events.
func (s *state) reportOther(before map[api.Account]int64, events []Event) {
	changes := s.balances()
	for k, balance := range before {
		changes[k] -= balance
	}
	for _, x := range events {
		for _, p := range x.Postings {
			changes[p.Account] -= p.Delta
		}
	}
	var postings []api.Posting
	for k, change := range changes {
		if change != 0 {
			postings = append(postings, api.Posting{Account: k, Delta: change})
		}
	}
	if len(postings) == 0 {
		return
	}
	slices.SortFunc(postings, func(a, b api.Posting) int { return history.Compare(a.Account, b.Account) })
	s.reportBooked(Posted, "close", 0, postings)
}

// record records the holdings for a corporate action.
func (s *state) record(id string, day int) {
	a, _, _ := s.register.Get(id)
	var l []corpaction.Holding
	for k, balance := range s.accounts.All() {
		counts := k.Kind == api.Free || k.Kind == api.Earmarked || k.Kind == api.Pledged
		if counts && k.Asset == a.Asset && k.Owner != centralBank && balance > 0 {
			l = append(l, corpaction.Holding{Account: k, Quantity: balance})
		}
	}
	slices.SortFunc(l, func(a, b corpaction.Holding) int { return history.Compare(a.Account, b.Account) })
	if s.register.Record(id, day, l) == api.OK {
		s.report(Recorded, id, int64(len(l)), nil)
	}
}

// payDue pays all corporate actions that are to be paid by a day.
func (s *state) payDue(day int) {
	for _, id := range s.register.ToPay(day) {
		s.pay(id, day)
	}
}

// pay pays a corporate action, if its postings are possible, and adjusts open trades.
func (s *state) pay(id string, day int) {
	a, _, _ := s.register.Get(id)
	holdings, _ := s.register.Holdings(id)
	postings, code := a.Postings(holdings)
	if code != api.OK || len(postings) > 0 && s.accounts.Check(postings) != api.OK {
		return
	}
	if _, code := s.register.Pay(id, day); code != api.OK {
		return
	}
	if len(postings) > 0 {
		s.accounts.Post(postings)
	}
	s.book(history.Part{Ref: id, Postings: postings})
	s.desk.Sync()
	s.report(Paid, id, 0, postings)
	if a.Kind == corpaction.Split || a.Kind == corpaction.Merger {
		s.adjustTrades(a)
	}
}

// adjustTrades adjusts all open trades after a split or a merger; those for which that is not possible fail.
func (s *state) adjustTrades(a corpaction.Event) {
	asset := a.Asset
	if a.Kind == corpaction.Merger {
		asset = a.Into
	}
	for _, id := range s.orders.Orders() {
		t, isTrade := s.orders.Trade(id)
		if !isTrade || t.Asset != a.Asset {
			continue
		}
		quantity, amount, code := a.Adjust(t.Quantity, t.Amount)
		if code == api.OK {
			code = s.orders.Adjust(id, asset, quantity, amount)
		}
		if code == api.OK {
			s.report(Adjusted, id, quantity, nil)
			continue
		}
		s.orders.Withdraw(id)
		s.report(Failed, id, 0, nil)
		s.finish(id, lifecycle.Failed)
	}
}

// penalize charges the penalties of a day.
func (s *state) penalize(day int) {
	var cases []fail.Case
	orders := map[string]string{}
	for _, id := range s.orders.Orders() {
		t, isTrade := s.orders.Trade(id)
		if !isTrade || t.Kind != message.DvP {
			continue
		}
		c := fail.Case{
			Ref: "F" + strconv.Itoa(len(cases)+1), Deliverer: t.Deliverer, Receiver: t.Receiver, Asset: t.Asset,
			Quantity: t.Quantity, Value: t.Amount, SettleDay: t.SettleDay, Fault: fail.LacksCash,
		}
		if s.accounts.Available(accountOf(t.Deliverer, api.Free, t.Asset)) < t.Quantity {
			c.Fault = fail.LacksSecurities
		}
		orders[c.Ref] = id
		cases = append(cases, c)
	}
	charges, _ := fail.Daily(cases, fail.Rates{Securities: PenaltySecurities(), Cash: PenaltyCash()}, s.calendar, day)
	for _, c := range charges {
		if s.accounts.Transfer(api.Cash, c.From, c.To, c.Amount) == api.OK {
			s.reportBooked(Charged, orders[c.Ref], c.Amount, movement(accountOf(c.From, api.Free, api.Cash), accountOf(c.To, api.Free, api.Cash), c.Amount))
		}
	}
}
