package validation_test

import (
	"slices"
	"testing"

	"giro/api"
	"giro/calendar"
	"giro/message"
	"giro/refdata"
	"giro/validation"
)

type (
	instruction = message.Instruction
	failure     = validation.Failure
)

const (
	isin   = "US0378331005"
	closed = "XS0000000009"
	monday = 9816 // 2026-11-16
)

// env has the active members BANKA, BANKB and ISSUER and the inactive GONE, and two securities with the lot 10, of which one is not active.
func env(t *testing.T) validation.Env {
	t.Helper()
	x := refdata.New()
	for _, code := range []string{"BANKA", "BANKB", "ISSUER"} {
		x.SetMember(0, refdata.Member{Code: code, Active: true})
	}
	x.SetMember(0, refdata.Member{Code: "GONE", Active: true})
	x.SetMember(monday, refdata.Member{Code: "GONE"})
	x.SetMember(monday+1, refdata.Member{Code: "LATER", Active: true})
	x.SetSecurity(0, refdata.Security{ISIN: isin, Issuer: "ISSUER", Lot: 10, Active: true})
	x.SetSecurity(0, refdata.Security{ISIN: closed, Issuer: "ISSUER", Lot: 10})
	x.SetSecurity(monday+1, refdata.Security{ISIN: isin, Issuer: "ISSUER", Lot: 7, Active: true})
	c, e := calendar.New([]int{5, 6}, []int{monday + 3})
	if e != api.OK {
		t.Fatal(e)
	}
	return validation.Env{Table: x, Calendar: c, Now: api.Clock{Day: monday, Minute: 600}}
}

func valid(kind int) instruction {
	i := instruction{Ref: "I1", Kind: kind, Sender: "BANKA", Asset: isin, Quantity: 100, SettleDay: monday + 2}
	switch kind {
	case message.Payment:
		i.Counterparty, i.Asset, i.Quantity, i.Amount = "BANKB", api.Cash, 0, 500
	case message.DvP:
		i.Counterparty, i.Amount, i.TradeDay = "BANKB", 500, monday
	case message.Free:
		i.Counterparty, i.TradeDay = "BANKB", monday
	}
	return i
}

func expect(t *testing.T, what string, i instruction, e validation.Env, want ...failure) {
	t.Helper()
	got, code := validation.Failures(i, e)
	if !slices.Equal(got, want) || code != api.OK {
		t.Errorf("%s: Failures = %v, %d, want %v", what, got, code, want)
	}
	first := api.OK
	if len(want) > 0 {
		first = want[0].Code
	}
	if code := validation.Check(i, e); code != first {
		t.Errorf("%s: Check = %d, want %d", what, code, first)
	}
}

// P22.1
func TestEnv(t *testing.T) {
	good := env(t)
	bad := good
	bad.Now.Day = -1
	for _, x := range []struct {
		change func(e *validation.Env)
		want   api.Errno
	}{
		{func(e *validation.Env) {}, api.OK}, {func(e *validation.Env) { e.Table, e.Now.Day = nil, -1 }, api.ErrArgument}, {func(e *validation.Env) { e.Calendar, e.Now.Day = nil, -1 }, api.ErrArgument},
		{func(e *validation.Env) { e.Now.Day = -1 }, api.ErrRange}, {func(e *validation.Env) { e.Now.Day = 73049 }, api.ErrRange}, {func(e *validation.Env) { e.Now.Minute = -1 }, api.ErrRange},
		{func(e *validation.Env) { e.Now.Minute = 1440 }, api.ErrRange}, {func(e *validation.Env) { e.Now = api.Clock{Day: 73048, Minute: 1439} }, api.OK},
		{func(e *validation.Env) { e.Now = api.Clock{} }, api.OK},
	} {
		e := good
		x.change(&e)
		if got := e.Check(); got != x.want {
			t.Error("Check", e.Now, got, x.want)
		}
		if x.want == api.OK {
			continue
		}
		l, e1 := validation.Failures(instruction{}, e)
		i, e2 := validation.Amend(instruction{}, message.Amendment{}, e)
		d, e3 := validation.NextDay(-1, e)
		if validation.Check(instruction{}, e) != x.want || len(l) != 0 || e1 != x.want || validation.CheckRequest(message.Request{Op: -1}, e) != x.want || !message.Equal(i, instruction{}) || e2 != x.want || d != 0 || e3 != x.want {
			t.Error("functions with an invalid environment", x.want)
		}
	}
}

// P22.2: for each rule, the kinds that it concerns.
func TestRules(t *testing.T) {
	e := env(t)
	all := []int{0, 1, 2, 3, 4}
	for _, x := range []struct {
		name  string
		kinds []int
		set   func(i *instruction)
		want  failure
	}{
		{"nothing", nil, func(*instruction) {}, failure{}},
		{"sender", all, func(i *instruction) { i.Sender = "NOBODY" }, failure{validation.Sender, api.ErrNotFound}},
		{"inactive sender", all, func(i *instruction) { i.Sender = "GONE" }, failure{validation.Sender, api.ErrNotFound}},
		{"sender of tomorrow", all, func(i *instruction) { i.Sender = "LATER" }, failure{validation.Sender, api.ErrNotFound}},
		{"past", all, func(i *instruction) { i.SettleDay, i.TradeDay = monday-3, i.TradeDay/monday*(monday-3) }, failure{validation.Past, api.ErrStale}},
		{"today", nil, func(i *instruction) { i.SettleDay = monday }, failure{}},
		{"ahead", all, func(i *instruction) { i.SettleDay = monday + 182 }, failure{validation.Ahead, api.ErrRange}},
		{"just ahead", nil, func(i *instruction) { i.SettleDay = monday + 179 }, failure{}},
		{"weekend", all, func(i *instruction) { i.SettleDay = monday + 5 }, failure{validation.Business, api.ErrDate}},
		{"holiday", all, func(i *instruction) { i.SettleDay = monday + 3 }, failure{validation.Business, api.ErrDate}},
	} {
		for kind := range message.Kinds {
			i := valid(kind)
			x.set(&i)
			if slices.Contains(x.kinds, kind) {
				expect(t, x.name, i, e, x.want)
			} else {
				expect(t, x.name, i, e)
			}
		}
	}
	for _, x := range []struct {
		name  string
		kinds []int
		set   func(i *instruction)
		want  failure
	}{
		{"counterparty", []int{0, 1, 2}, func(i *instruction) { i.Counterparty = "NOBODY" }, failure{validation.Counterparty, api.ErrNotFound}},
		{"inactive counterparty", []int{0, 1, 2}, func(i *instruction) { i.Counterparty = "GONE" }, failure{validation.Counterparty, api.ErrNotFound}},
		{"security", []int{1, 2, 3, 4}, func(i *instruction) { i.Asset, i.Quantity = "US5949181045", 7 }, failure{validation.Security, api.ErrNotFound}},
		{"status", []int{1, 2, 3}, func(i *instruction) { i.Asset = closed }, failure{validation.Status, api.ErrState}},
		{"lot", []int{1, 2, 3, 4}, func(i *instruction) { i.Quantity = 105 }, failure{validation.Lot, api.ErrRange}},
		{"minimum lot", []int{1, 2}, func(i *instruction) { i.Partial, i.MinLot = true, 5 }, failure{validation.Lot, api.ErrRange}},
		{"issuer", []int{3}, func(i *instruction) { i.Sender = "ISSUER" }, failure{validation.Issuer, api.ErrIneligible}},
		{"trade day ahead", []int{1, 2}, func(i *instruction) { i.TradeDay = monday + 1 }, failure{validation.Trade, api.ErrDate}},
		{"trade day on a weekend", []int{1, 2}, func(i *instruction) { i.TradeDay = monday - 1 }, failure{validation.Trade, api.ErrDate}},
	} {
		for _, kind := range x.kinds {
			i := valid(kind)
			x.set(&i)
			expect(t, x.name, i, e, x.want)
		}
	}
	bound := valid(message.Payment)
	bound.SettleDay = monday + 180
	expect(t, "180 days ahead", bound, e, failure{validation.Business, api.ErrDate})
	bound.SettleDay = monday + 181
	expect(t, "181 days ahead", bound, e, failure{validation.Ahead, api.ErrRange}, failure{validation.Business, api.ErrDate})
	release := valid(message.Release)
	release.Asset = closed
	expect(t, "inactive security is released", release, e)
	release.Asset, release.Sender = isin, "ISSUER"
	expect(t, "issuer releases", release, e)
	ok := valid(message.DvP)
	ok.Partial, ok.MinLot, ok.TradeDay = true, 20, monday-3
	expect(t, "multiple of the lot", ok, e)
}

// P22.2
func TestSeveralRules(t *testing.T) {
	e := env(t)
	i := valid(message.Pledge)
	i.Asset, i.Sender, i.Quantity, i.SettleDay = closed, "ISSUER", 5, monday-2
	expect(t, "security rules", i, e, failure{validation.Status, api.ErrState}, failure{validation.Lot, api.ErrRange}, failure{validation.Issuer, api.ErrIneligible}, failure{validation.Past, api.ErrStale}, failure{validation.Business, api.ErrDate})
	d := valid(message.DvP)
	d.Sender, d.Counterparty, d.Asset, d.SettleDay, d.TradeDay = "NOBODY", "GONE", "US5949181045", monday+187, monday+2
	expect(t, "unknown security", d, e, failure{validation.Sender, api.ErrNotFound}, failure{validation.Counterparty, api.ErrNotFound}, failure{validation.Security, api.ErrNotFound}, failure{validation.Ahead, api.ErrRange}, failure{validation.Business, api.ErrDate}, failure{validation.Trade, api.ErrDate})
	d.Quantity = 0
	expect(t, "form", d, e, failure{validation.Form, api.ErrRange})
	expect(t, "kind", instruction{Kind: 9}, e, failure{validation.Form, api.ErrKind})
}

// P22.3
func TestCheckRequest(t *testing.T) {
	e := env(t)
	i := valid(0)
	past := i
	past.SettleDay = monday - 3
	for _, x := range []struct {
		r    message.Request
		want api.Errno
	}{
		{message.Request{Op: -1}, api.ErrKind}, {message.Request{Op: message.Submit, Sender: "BANKA", Ref: "I1", Instruction: i}, api.OK}, {message.Request{Op: message.Submit, Sender: "BANKA", Ref: "I2", Instruction: past}, api.ErrMismatch},
		{message.Request{Op: message.Submit, Sender: "BANKA", Ref: "I1", Instruction: past}, api.ErrStale}, {message.Request{Op: message.Cancel, Sender: "BANKA", Ref: "I1"}, api.OK}, {message.Request{Op: message.Hold, Sender: "GONE", Ref: "I1"}, api.ErrNotFound},
		{message.Request{Op: message.Amend, Sender: "NOBODY", Ref: "I1"}, api.ErrFormat}, {message.Request{Op: message.Resume, Sender: "NOBODY", Ref: "I1"}, api.ErrNotFound},
	} {
		if got := validation.CheckRequest(x.r, e); got != x.want {
			t.Errorf("CheckRequest(%+v) = %d, want %d", x.r, got, x.want)
		}
	}
}

// P22.4
func TestAmend(t *testing.T) {
	e := env(t)
	i := valid(message.DvP)
	got, code := validation.Amend(i, message.Amendment{HasAmount: true, Amount: 7}, e)
	i.Amount = 7
	if !message.Equal(got, i) || code != api.OK {
		t.Error(got, code)
	}
	for _, x := range []struct {
		a    message.Amendment
		want api.Errno
	}{{message.Amendment{}, api.ErrFormat}, {message.Amendment{HasSettleDay: true, SettleDay: monday - 1}, api.ErrDate}, {message.Amendment{HasSettleDay: true, SettleDay: monday + 5}, api.ErrDate}, {message.Amendment{HasPartial: true, Partial: true, MinLot: 7}, api.ErrRange}} {
		if got, code := validation.Amend(i, x.a, e); !message.Equal(got, instruction{}) || code != x.want {
			t.Error(x.a, got, code)
		}
	}
}

// P22.4
func TestNextDay(t *testing.T) {
	e := env(t)
	for _, x := range []struct {
		day, want int
		code      api.Errno
	}{{0, monday, api.OK}, {monday, monday, api.OK}, {monday + 3, monday + 4, api.OK}, {monday + 5, monday + 7, api.OK}, {-1, 0, api.ErrRange}, {73049, 0, api.ErrRange}, {73047, 73047, api.OK}} {
		if got, code := validation.NextDay(x.day, e); got != x.want || code != x.code {
			t.Error("NextDay", x.day, got, code)
		}
	}
	e.Now.Day = monday - 1
	if got, _ := validation.NextDay(5, e); got != monday {
		t.Error("from a weekend", got)
	}
	e.Calendar, _ = calendar.New(nil, []int{73048})
	if got, code := validation.NextDay(73048, e); got != 0 || code != api.ErrDate {
		t.Error("no such day", got, code)
	}
}

// P22.5
func TestRuleName(t *testing.T) {
	for n, rule := range []int{
		validation.Form, validation.Sender, validation.Counterparty, validation.Security, validation.Status, validation.Lot,
		validation.Issuer, validation.Past, validation.Ahead, validation.Business, validation.Trade, validation.Rules,
	} {
		if rule != n {
			t.Error("rule", n, "is", rule)
		}
	}
	names := []string{"form", "sender", "counterparty", "security", "status", "lot", "issuer", "past", "ahead", "business", "trade"}
	for rule := -2; rule < validation.Rules+2; rule++ {
		want := ""
		if rule >= 0 && rule < len(names) {
			want = names[rule]
		}
		if validation.RuleName(rule) != want {
			t.Error(rule, validation.RuleName(rule))
		}
	}
}

// P22.6
func TestMirror(t *testing.T) {
	e := env(t)
	for _, set := range []func(i *instruction){func(i *instruction) {}, func(i *instruction) { i.Sender = "GONE" }, func(i *instruction) { i.Asset = closed }, func(i *instruction) { i.TradeDay = monday - 1 }, func(i *instruction) { i.Quantity = 1 }} {
		i := valid(message.Free)
		set(&i)
		m := i
		m.Sender, m.Counterparty, m.Side = i.Counterparty, i.Sender, message.Receive
		if (validation.Check(i, e) == api.OK) != (validation.Check(m, e) == api.OK) {
			t.Error("mirror image", i)
		}
	}
}

// Example 1
func TestExample(t *testing.T) {
	e := env(t)
	i := valid(message.Free)
	i.Quantity = 25
	expect(t, "lot", i, e, failure{validation.Lot, api.ErrRange})
	i.Quantity, i.SettleDay = 30, monday+5
	expect(t, "Saturday", i, e, failure{validation.Business, api.ErrDate})
	if validation.MaxAhead != 180 {
		t.Error("MaxAhead")
	}
}
