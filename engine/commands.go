package engine

import (
	"giro/account"
	"giro/api"
	"giro/corpaction"
	"giro/date"
	"giro/fraction"
	"giro/message"
	"giro/refdata"
	"giro/schedule"
)

// maxMinute is the last minute of a day.
const maxMinute = 1439

// fields tells which fields a kind of commands uses.
type fields struct{ clock, member, security, from, to, asset, amount, ratio, request, action bool }

// usedFields holds the fields that the kinds use.
var usedFields = [NumCommands]fields{
	Advance:         {clock: true},
	SetMember:       {member: true},
	SetSecurity:     {security: true},
	SetPrice:        {asset: true, amount: true},
	SetHaircut:      {asset: true, ratio: true},
	Issue:           {from: true, to: true, asset: true, amount: true},
	Redeem:          {from: true, to: true, asset: true, amount: true},
	SetBilateral:    {from: true, to: true, amount: true},
	SetMultilateral: {from: true, amount: true},
	Reserve:         {from: true, amount: true},
	Unreserve:       {from: true, amount: true},
	SetAuto:         {from: true, amount: true},
	Submit:          {request: true},
	Announce:        {action: true},
	Withdraw:        {from: true},
}

// Check returns the first error of a command that does not depend on the state.
func (c Command) Check() api.Errno {
	if c.Kind < 0 || c.Kind >= NumCommands {
		return api.ErrKind
	}
	if !c.usesOnly(usedFields[c.Kind]) {
		return api.ErrFormat
	}
	switch c.Kind {
	case Advance:
		if !date.Valid(c.Clock.Day) || c.Clock.Minute < 0 || c.Clock.Minute > maxMinute {
			return api.ErrRange
		}
	case SetAuto:
		if c.Amount != 0 && c.Amount != 1 {
			return api.ErrRange
		}
	case Submit:
		return c.Request.Check()
	case Announce:
		return c.Action.Check()
	}
	return api.OK
}

// usesOnly reports whether all other fields than the given ones are zero.
func (c Command) usesOnly(f fields) bool {
	return (f.clock || c.Clock == api.Clock{}) &&
		(f.member || c.Member == refdata.Member{}) &&
		(f.security || c.Security == refdata.Security{}) &&
		(f.from || c.From == "") && (f.to || c.To == "") && (f.asset || c.Asset == "") && (f.amount || c.Amount == 0) &&
		(f.ratio || c.Ratio == fraction.Fraction{}) &&
		(f.request || message.EqualRequests(c.Request, message.Request{})) &&
		(f.action || c.Action == corpaction.Event{})
}

// action returns the action that the phase must allow for a command other than Advance.
func (c Command) action() (int, api.Errno) {
	switch c.Kind {
	case Reserve, Unreserve:
		return schedule.Collateral, api.OK
	case Submit:
		return schedule.ActionOf(c.Request.Op, c.Request.Instruction.Kind)
	}
	return schedule.Administer, api.OK
}

// execute executes a command whose check has succeeded.
func (s *state) execute(c Command) api.Errno {
	if c.Kind == Advance {
		return s.advance(c.Clock)
	}
	action, code := c.action()
	if code != api.OK {
		return code
	}
	if code := schedule.Allows(s.phase(), action); code != api.OK {
		return code
	}
	effects := [NumCommands]func(c Command) api.Errno{
		SetMember: func(c Command) api.Errno {
			return s.change(s.table.SetMember(s.clock.Day, c.Member))
		},
		SetSecurity: func(c Command) api.Errno {
			return s.change(s.table.SetSecurity(s.clock.Day, c.Security))
		},
		SetPrice: func(c Command) api.Errno {
			return s.change(s.table.SetPrice(s.clock.Day, c.Asset, c.Amount))
		},
		SetHaircut: func(c Command) api.Errno {
			return s.change(s.table.SetHaircut(s.clock.Day, c.Asset, c.Ratio))
		},
		Issue:  s.issue,
		Redeem: s.redeem,
		SetBilateral: func(c Command) api.Errno {
			return s.limits.SetBilateral(c.From, c.To, c.Amount)
		},
		SetMultilateral: func(c Command) api.Errno {
			return s.limits.SetMultilateral(c.From, c.Amount)
		},
		Reserve:   s.reserve,
		Unreserve: s.unreserve,
		SetAuto: func(c Command) api.Errno {
			return s.desk.SetAuto(c.From, c.Amount == 1)
		},
		Submit:   func(c Command) api.Errno { return s.request(c.Request) },
		Announce: s.announce,
		Withdraw: func(c Command) api.Errno { return s.register.Withdraw(c.From) },
	}
	if code := effects[c.Kind](c); code != api.OK {
		return code
	}
	if schedule.Allows(s.phase(), schedule.Settle) == api.OK {
		s.run()
	}
	return api.OK
}

// change revalues the pools after a change of reference data that has succeeded.
func (s *state) change(code api.Errno) api.Errno {
	if code == api.OK {
		s.revalue()
	}
	return code
}

func (s *state) issue(c Command) api.Errno {
	if code := s.checkIssuer(c.Asset, c.From); code != api.OK {
		return code
	}
	if code := s.accounts.Issue(c.From, c.Asset, c.To, c.Amount); code != api.OK {
		return code
	}
	s.reportBooked(Posted, "issue", c.Amount, movement(accountOf(c.From, api.Issued, c.Asset), accountOf(c.To, api.Free, c.Asset), c.Amount))
	return api.OK
}

func (s *state) redeem(c Command) api.Errno {
	if code := s.checkIssuer(c.Asset, c.From); code != api.OK {
		return code
	}
	if code := s.accounts.Redeem(c.From, c.Asset, c.To, c.Amount); code != api.OK {
		return code
	}
	s.reportBooked(Posted, "redeem", c.Amount, movement(accountOf(c.To, api.Free, c.Asset), accountOf(c.From, api.Issued, c.Asset), c.Amount))
	return api.OK
}

func (s *state) reserve(c Command) api.Errno {
	if code := s.accounts.Reserve(c.From, c.Amount); code != api.OK {
		return code
	}
	s.reportBooked(Posted, "reserve", c.Amount, movement(accountOf(c.From, api.Free, api.Cash), accountOf(c.From, api.Reserved, api.Cash), c.Amount))
	return api.OK
}

func (s *state) unreserve(c Command) api.Errno {
	if code := s.accounts.Unreserve(c.From, c.Amount); code != api.OK {
		return code
	}
	s.reportBooked(Posted, "unreserve", c.Amount, movement(accountOf(c.From, api.Reserved, api.Cash), accountOf(c.From, api.Free, api.Cash), c.Amount))
	return api.OK
}

func (s *state) announce(c Command) api.Errno {
	a := c.Action
	if code := s.checkIssuer(a.Asset, a.Issuer); code != api.OK {
		return code
	}
	if a.Kind == corpaction.Merger || a.Kind == corpaction.Rights {
		if code := s.checkIssuer(a.Into, a.Issuer); code != api.OK {
			return code
		}
	}
	takes := a.Kind == corpaction.Split || a.Kind == corpaction.Merger || a.Kind == corpaction.Redemption
	if takes && a.PayDay != a.RecordDay {
		return api.ErrDate
	}
	return s.register.Announce(a, s.clock.Day)
}

// checkIssuer returns an error unless an asset other than cash is effective and was issued by a member.
func (s *state) checkIssuer(asset, issuer string) api.Errno {
	if asset == api.Cash {
		return api.OK
	}
	security, found := s.table.Security(s.clock.Day, asset)
	if !found {
		return api.ErrNotFound
	}
	if security.Issuer != issuer {
		return api.ErrIneligible
	}
	return api.OK
}

// centralBank is the owner to which collateral goes.
const centralBank = account.CentralBank
