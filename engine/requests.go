package engine

import (
	"slices"

	"giro/api"
	"giro/lifecycle"
	"giro/matching"
	"giro/matchpool"
	"giro/message"
	"giro/validation"
)

// request executes a request.
func (s *state) request(r message.Request) api.Errno {
	key := keyOf(r.Sender, r.Ref)
	if r.Op == message.Submit {
		return s.submit(key, r.Instruction)
	}
	current, found := s.states[key]
	if !found {
		return api.ErrNotFound
	}
	unmatched := current == lifecycle.Unmatched
	isOpen := current == lifecycle.Waiting || current == lifecycle.Held || current == lifecycle.Partly
	switch {
	case r.Op == message.Amend && unmatched:
		return s.amend(key, r)
	case r.Op == message.Amend && isOpen:
		return s.promote(s.orderOf[key], r.Amendment)
	case r.Op == message.Cancel && unmatched:
		return s.cancelUnmatched(key, r)
	case r.Op == message.Cancel && isOpen:
		return s.cancelOrder(key, r)
	case r.Op == message.Hold && isOpen:
		return s.hold(s.orderOf[key], r.Sender)
	case r.Op == message.Resume && current == lifecycle.Held:
		return s.resume(s.orderOf[key], r.Sender)
	}
	return api.ErrState
}

// submit accepts a new instruction.
func (s *state) submit(key string, i message.Instruction) api.Errno {
	if code := validation.Check(i, s.env()); code != api.OK {
		return code
	}
	if _, found := s.states[key]; found {
		return api.ErrDuplicate
	}
	if i.Kind == message.Pledge {
		if code := s.valuer.Eligible(i.Sender, i.Asset); code != api.OK {
			return code
		}
	}
	s.report(Accepted, key, 0, nil)
	switch i.Kind {
	case message.Payment:
		return s.submitPayment(key, i)
	case message.Pledge, message.Release:
		return s.submitPledge(key, i)
	}
	s.states[key] = lifecycle.Unmatched
	t, matched, code := s.pool.Submit(i)
	if code != api.OK || !matched {
		return code
	}
	return s.submitTrade(t)
}

// submitPayment passes a payment to the settlement engine.
func (s *state) submitPayment(key string, i message.Instruction) api.Errno {
	s.number++
	if code := s.orders.SubmitPayment(i, s.number, s.targets(i.Sender, i.Links)); code != api.OK {
		return code
	}
	var holders []string
	if i.Hold {
		holders = append(holders, i.Sender)
	}
	if i.SettleDay > s.clock.Day {
		if !i.Hold {
			s.orders.Hold(key)
		}
		holders = append(holders, waitingDay)
	}
	s.add(key, []string{key}, holders)
	return api.OK
}

// submitPledge pledges or releases securities.
func (s *state) submitPledge(key string, i message.Instruction) api.Errno {
	free, pledged := accountOf(i.Sender, api.Free, i.Asset), accountOf(i.Sender, api.Pledged, i.Asset)
	postings := movement(free, pledged, i.Quantity)
	change := s.desk.Pledge
	if i.Kind == message.Release {
		postings = movement(pledged, free, i.Quantity)
		change = s.desk.Release
	}
	if code := change(i.Sender, i.Asset, i.Quantity); code != api.OK {
		return code
	}
	s.reportBooked(Posted, key, i.Quantity, postings)
	s.states[key] = lifecycle.Settled
	return api.OK
}

// submitTrade passes a trade that has just matched to the settlement engine.
func (s *state) submitTrade(t matching.Trade) api.Errno {
	id := t.Id()
	keys := []string{keyOf(t.Deliverer, t.Refs[0]), keyOf(t.Receiver, t.Refs[1])}
	var links []message.Link
	var holders []string
	for n, sender := range []string{t.Deliverer, t.Receiver} {
		s.orderOf[keys[n]] = id
		i, _ := s.pool.Get(sender, t.Refs[n])
		links = append(links, s.targets(sender, i.Links)...)
		if i.Hold {
			holders = append(holders, sender)
		}
	}
	links = slices.DeleteFunc(links, func(l message.Link) bool { return l.Ref == id })
	if t.SettleDay > s.clock.Day {
		holders = append(holders, waitingDay)
	}
	s.number++
	if code := s.orders.SubmitTrade(t, s.number, links, len(holders) > 0); code != api.OK {
		return code
	}
	s.report(Matched, id, 0, nil)
	s.add(id, keys, holders)
	return api.OK
}

// add notes an order that was passed to the settlement engine.
func (s *state) add(id string, keys, holders []string) {
	s.open[id] = order{keys: keys, holders: holders}
	for _, k := range keys {
		s.orderOf[k] = id
	}
	if len(holders) > 0 {
		s.setStates(id, lifecycle.Held)
	} else {
		s.setStates(id, lifecycle.Waiting)
	}
}

// targets returns the links of an instruction as links between orders.
func (s *state) targets(sender string, links []message.Link) []message.Link {
	var l []message.Link
	for _, x := range links {
		key := keyOf(sender, x.Ref)
		if state := s.pool.State(sender, x.Ref); state == matchpool.Matched || state == matchpool.Cancelled {
			key = s.orderOf[key]
		}
		l = append(l, message.Link{Type: x.Type, Ref: key})
	}
	return l
}

// amend amends an unmatched instruction.
func (s *state) amend(key string, r message.Request) api.Errno {
	i, _ := s.pool.Get(r.Sender, r.Ref)
	if _, code := validation.Amend(i, r.Amendment, s.env()); code != api.OK {
		return code
	}
	t, matched, code := s.pool.Amend(r.Sender, r.Ref, r.Amendment)
	if code != api.OK {
		return code
	}
	s.report(Changed, key, 0, nil)
	if !matched {
		return api.OK
	}
	return s.submitTrade(t)
}

// promote changes the priority of an order, which is all that can be amended.
func (s *state) promote(id string, a message.Amendment) api.Errno {
	if a.HasAmount || a.HasSettleDay || a.HasPartial {
		return api.ErrState
	}
	if code := s.orders.Promote(id, a.Priority); code != api.OK {
		return code
	}
	s.report(Changed, id, 0, nil)
	return api.OK
}

// cancelUnmatched removes an unmatched instruction.
func (s *state) cancelUnmatched(key string, r message.Request) api.Errno {
	if _, code := s.pool.Cancel(r.Sender, r.Ref); code != api.OK {
		return code
	}
	s.report(Cancelled, key, 0, nil)
	s.states[key] = lifecycle.Cancelled
	return api.OK
}

// cancelOrder withdraws a payment, or a trade as soon as both sides have asked for it.
func (s *state) cancelOrder(key string, r message.Request) api.Errno {
	id := s.orderOf[key]
	if _, isTrade := s.orders.Trade(id); isTrade {
		gone, code := s.pool.Cancel(r.Sender, r.Ref)
		if code != api.OK {
			return code
		}
		if !gone {
			s.report(Changed, key, 0, nil)
			return api.OK
		}
	}
	if code := s.orders.Withdraw(id); code != api.OK {
		return code
	}
	s.report(Cancelled, id, 0, nil)
	s.finish(id, lifecycle.Cancelled)
	return api.OK
}

// hold adds a holder to an order.
func (s *state) hold(id, sender string) api.Errno {
	o := s.open[id]
	if slices.Contains(o.holders, sender) {
		return api.ErrState
	}
	if len(o.holders) == 0 {
		if code := s.orders.Hold(id); code != api.OK {
			return code
		}
		s.setStates(id, lifecycle.Held)
	}
	o.holders = append(slices.Clip(o.holders), sender)
	s.open[id] = o
	s.report(Changed, id, 0, nil)
	return api.OK
}

// resume takes a holder from an order.
func (s *state) resume(id, sender string) api.Errno {
	if !slices.Contains(s.open[id].holders, sender) {
		return api.ErrState
	}
	s.release(id, sender)
	s.report(Changed, id, 0, nil)
	return api.OK
}
