package engine

import (
	"maps"
	"slices"

	"giro/account"
	"giro/api"
	"giro/calendar"
	"giro/closing"
	"giro/collateral"
	"giro/corpaction"
	"giro/credit"
	"giro/history"
	"giro/lifecycle"
	"giro/limit"
	"giro/matchpool"
	"giro/refdata"
	"giro/schedule"
	"giro/settlement"
	"giro/validation"
	"giro/valuation"
)

// waitingDay is the holder of an order that waits for its settlement day.
const waitingDay = ""

// state is the state of the system, and the events of the command that is executed on it.
type state struct {
	calendar *calendar.Calendar
	schedule schedule.Schedule
	clock    api.Clock
	table    *refdata.Table
	accounts *account.Accounts
	history  *history.History
	limits   *limit.Table
	desk     *credit.Desk
	valuer   *valuation.Valuer // the one that was last passed to the desk with success
	pool     *matchpool.Pool
	orders   *settlement.Engine
	register *corpaction.Register
	states   map[string]int    // the states of all instructions, by key
	open     map[string]order  // what is known of the orders of the settlement engine
	orderOf  map[string]string // the orders of open instructions, by key
	number   int               // the number of orders so far
	seq      int               // the number of events so far
	events   []Event
}

// order is an order of the settlement engine: its instructions, who holds it, and whether a part has settled. It is replaced as a whole.
type order struct {
	keys    []string
	holders []string
	parted  bool
}

// appraiser values collateral for the desk.
type appraiser struct{ *valuation.Valuer }

// lender raises lines for the settlement engine.
type lender struct{ *state }

// newState returns the initial state.
func newState(cal *calendar.Calendar, s schedule.Schedule) (*state, api.Errno) {
	x := &state{
		calendar: cal, schedule: s, table: refdata.New(), accounts: account.New(), history: history.New(), limits: limit.New(),
		register: corpaction.New(), states: map[string]int{}, open: map[string]order{}, orderOf: map[string]string{},
	}
	var code api.Errno
	if x.valuer, code = valuation.New(x.table, 0); code != api.OK {
		return nil, code
	}
	if x.desk, code = credit.New(x.accounts, appraiser{x.valuer}); code != api.OK {
		return nil, code
	}
	if x.pool, code = matchpool.New(Tolerance); code != api.OK {
		return nil, code
	}
	if x.orders, code = settlement.New(x.accounts, x.limits, lender{x}); code != api.OK {
		return nil, code
	}
	return x, api.OK
}

// clone returns an independent copy.
func (s *state) clone() *state {
	c := *s
	c.table, c.accounts, c.history, c.limits = s.table.Clone(), s.accounts.Clone(), s.history.Clone(), s.limits.Clone()
	c.desk = s.desk.Clone(c.accounts)
	c.pool, c.register = s.pool.Clone(), s.register.Clone()
	c.orders = s.orders.Clone(c.accounts, c.limits, lender{&c})
	c.states, c.open, c.orderOf = maps.Clone(s.states), maps.Clone(s.open), maps.Clone(s.orderOf)
	c.events = nil
	return &c
}

// Value returns the collateral value of a quantity: 0 if the security is not eligible, and the largest amount if the value is larger.
func (a appraiser) Value(owner, asset string, quantity int64) (int64, api.Errno) {
	if a.Eligible(owner, asset) != api.OK {
		return 0, api.OK
	}
	value, code := a.Valuer.Value(owner, valuation.Position{ISIN: asset, Quantity: quantity})
	if code == api.ErrOverflow {
		return api.MaxAmount, api.OK
	}
	return value, code
}

// Raise raises the line of a member by pledging securities that are eligible and not blocked.
func (l lender) Raise(member string, amount int64, blocked []string) ([]collateral.Position, api.Errno) {
	all := slices.Clone(blocked)
	for k, balance := range l.accounts.All() {
		if k.Owner == member && k.Kind == api.Free && k.Asset != api.Cash && balance > 0 && l.valuer.Eligible(member, k.Asset) != api.OK {
			all = append(all, k.Asset)
		}
	}
	slices.Sort(all)
	return l.desk.Raise(member, amount, slices.Compact(all))
}

// keyOf returns the key of an instruction.
func keyOf(sender, ref string) string { return sender + "/" + ref }

// phase returns the current phase.
func (s *state) phase() int {
	phase, _ := s.schedule.Phase(s.clock, s.calendar)
	return phase
}

// env returns the environment of validations.
func (s *state) env() validation.Env {
	return validation.Env{Table: s.table, Calendar: s.calendar, Now: s.clock}
}

// system returns the parts on which a closing works.
func (s *state) system() closing.System {
	return closing.System{Accounts: s.accounts, Limits: s.limits, Desk: s.desk, Orders: s.orders, Pool: s.pool, Calendar: s.calendar}
}

// report adds an event.
func (s *state) report(kind int, ref string, amount int64, postings []api.Posting) {
	s.seq++
	s.events = append(s.events, Event{s.seq, s.clock, kind, ref, amount, postings})
}

// book appends parts to the history as one bundle; a bundle that the history refuses is left out.
func (s *state) book(parts ...history.Part) {
	parts = slices.DeleteFunc(parts, func(p history.Part) bool { return len(p.Postings) == 0 })
	if len(parts) > 0 {
		s.history.Append(history.Bundle{Sequence: s.history.Len() + 1, Clock: s.clock, Parts: parts})
	}
}

// reportBooked adds an event whose postings are booked with its reference.
func (s *state) reportBooked(kind int, ref string, amount int64, postings []api.Posting) {
	s.report(kind, ref, amount, postings)
	s.book(history.Part{Ref: ref, Postings: postings})
}

// revalue passes a valuer of the current day to the desk.
func (s *state) revalue() {
	v, code := valuation.New(s.table, s.clock.Day)
	if code != api.OK {
		return
	}
	if _, code := s.desk.Revalue(appraiser{v}); code == api.OK {
		s.valuer = v
	}
}

// run settles what can settle.
func (s *state) run() {
	events, _ := s.orders.Run()
	s.reportRun(events)
	s.desk.Refresh()
}

// reportRun reports and books the events of a run.
func (s *state) reportRun(events []settlement.Event) {
	var settled []history.Part
	for _, x := range events {
		if x.Kind != settlement.Settled {
			s.book(settled...)
			settled = nil
		}
		switch x.Kind {
		case settlement.Settled:
			s.report(Settled, x.Id, 0, x.Postings)
			settled = append(settled, history.Part{Ref: x.Id, Postings: x.Postings})
			s.finish(x.Id, lifecycle.Settled)
		case settlement.Part:
			s.reportBooked(Part, x.Id, x.Quantity, x.Postings)
			o := s.open[x.Id]
			o.parted = true
			s.open[x.Id] = o
			s.setStates(x.Id, lifecycle.Partly)
		case settlement.Pledged:
			s.reportBooked(Pledged, x.Id, 0, movements(x.Positions, x.Id, api.Free, x.Id, api.Pledged))
		}
	}
	s.book(settled...)
}

// setStates sets the states of the instructions of an order.
func (s *state) setStates(id string, to int) {
	for _, k := range s.open[id].keys {
		s.states[k] = to
	}
}

// finish sets the final states of the instructions of an order that has left the settlement engine; a trade is completed in the pool, if it is still there.
func (s *state) finish(id string, to int) {
	s.setStates(id, to)
	for _, k := range s.open[id].keys {
		delete(s.orderOf, k)
	}
	delete(s.open, id)
	s.pool.Complete(id)
}

// settleDay returns the settlement day of an order.
func (s *state) settleDay(id string) int {
	if i, found := s.orders.Payment(id); found {
		return i.SettleDay
	}
	t, _ := s.orders.Trade(id)
	return t.SettleDay
}

// release takes a holder from an order; if nobody holds it now, it goes on waiting.
func (s *state) release(id, holder string) {
	o := s.open[id]
	o.holders = slices.DeleteFunc(slices.Clone(o.holders), func(h string) bool { return h == holder })
	s.open[id] = o
	if len(o.holders) > 0 {
		return
	}
	s.orders.Resume(id)
	if o.parted {
		s.setStates(id, lifecycle.Partly)
	} else {
		s.setStates(id, lifecycle.Waiting)
	}
}

// movement returns the postings of a movement, the debit first.
func movement(from, to api.Account, x int64) []api.Posting {
	return []api.Posting{{Account: from, Delta: -x}, {Account: to, Delta: x}}
}

// movements returns the postings of movements of positions between accounts of two owners.
func movements(positions []collateral.Position, from string, fromKind int, to string, toKind int) []api.Posting {
	var l []api.Posting
	for _, p := range positions {
		l = append(l, movement(accountOf(from, fromKind, p.Asset), accountOf(to, toKind, p.Asset), p.Quantity)...)
	}
	return l
}

func accountOf(owner string, kind int, asset string) api.Account {
	return api.Account{Owner: owner, Kind: kind, Asset: asset}
}
