package refdata_test

import (
	"math"
	"slices"
	"strconv"
	"strings"
	"testing"

	"giro/api"
	"giro/date"
	"giro/fraction"
	"giro/ident"
	"giro/refdata"
)

type (
	member   = refdata.Member
	security = refdata.Security
)

const (
	isin  = "US0378331005"
	other = "XS0000000009"
)

func want(t *testing.T, what string, got, e api.Errno) {
	t.Helper()
	if got != e {
		t.Errorf("%s: error %d, want %d", what, got, e)
	}
}

func lei(n int) string {
	s := strconv.Itoa(n)
	s = strings.Repeat("0", 18-len(s)) + s
	d, _ := ident.LEICheckDigits(s)
	return s + d
}

func makeISIN(n int) string {
	s, _ := ident.MakeISIN("XX", strconv.Itoa(n))
	return s
}

func frac(num, den int64) fraction.Fraction { f, _ := fraction.New(num, den); return f }

// refused checks that an addition is refused and changes nothing.
func refused(t *testing.T, x *refdata.Table, what string, e api.Errno, add func() api.Errno) {
	t.Helper()
	before := x.Clone()
	want(t, what, add(), e)
	if !x.Equal(before) {
		t.Error(what, "changes the table")
	}
}

// sample has the issuer ISSUER from day 10 and its security from day 20.
func sample(t *testing.T) *refdata.Table {
	t.Helper()
	x := refdata.New()
	want(t, "member", x.SetMember(10, member{"ISSUER", lei(1), true}), api.OK)
	want(t, "security", x.SetSecurity(20, security{isin, "ISSUER", 10, true}), api.OK)
	return x
}

// P21.1
func TestSetMember(t *testing.T) {
	x := sample(t)
	set := func(day int, code, lei string) func() api.Errno {
		return func() api.Errno { return x.SetMember(day, member{code, lei, true}) }
	}
	refused(t, x, "day", api.ErrDate, set(-1, "x", "x"))
	refused(t, x, "day", api.ErrDate, set(date.MaxDay+1, "x", "x"))
	refused(t, x, "code", api.ErrUnknown, set(5, "CB", "x"))
	refused(t, x, "LEI", api.ErrFormat, set(5, "ISSUER", "x"))
	refused(t, x, "stale", api.ErrStale, set(9, "ISSUER", ""))
	refused(t, x, "LEI of another", api.ErrDuplicate, set(5, "BANKA", lei(1)))
	want(t, "stale first", x.SetMember(30, member{"BANKA", lei(2), true}), api.OK)
	refused(t, x, "stale first", api.ErrStale, set(29, "BANKA", lei(1)))
	want(t, "own LEI", x.SetMember(10, member{"ISSUER", lei(1), false}), api.OK)
	want(t, "no LEI", x.SetMember(11, member{"ISSUER", "", true}), api.OK)
	want(t, "LEI that is free again", x.SetMember(30, member{"BANKA", lei(1), true}), api.OK)
	want(t, "no LEI twice", x.SetMember(30, member{"BANKB", "", true}), api.OK)
	refused(t, x, "LEI now of another", api.ErrDuplicate, set(12, "ISSUER", lei(1)))
}

// P21.1 P21.2
func TestLimits(t *testing.T) {
	x := refdata.New()
	for n := range refdata.MaxEntries {
		if e := x.SetMember(0, member{"A" + strconv.Itoa(100000+n), "", true}); e != api.OK {
			t.Fatal(n, e)
		}
		if e := x.SetSecurity(0, security{makeISIN(n), "A100000", 1, true}); e != api.OK {
			t.Fatal(n, e)
		}
	}
	want(t, "member", x.SetMember(0, member{"BANKA", "", true}), api.ErrLimit)
	want(t, "known member", x.SetMember(1, member{"A100000", lei(1), true}), api.OK)
	want(t, "duplicate first", x.SetMember(0, member{"BANKA", lei(1), true}), api.ErrDuplicate)
	want(t, "security", x.SetSecurity(0, security{isin, "A100000", 1, true}), api.ErrLimit)
	want(t, "known security", x.SetSecurity(1, security{makeISIN(0), "A100000", 2, true}), api.OK)
	if len(x.Members(0)) != refdata.MaxEntries {
		t.Error("Members", len(x.Members(0)))
	}
}

// P21.2
func TestSetSecurity(t *testing.T) {
	x := sample(t)
	x.SetMember(0, member{"OTHER", "", false})
	set := func(day int, s security) func() api.Errno {
		return func() api.Errno { return x.SetSecurity(day, s) }
	}
	refused(t, x, "day", api.ErrDate, set(-1, security{"x", "x", 0, true}))
	refused(t, x, "ISIN", api.ErrUnknown, set(15, security{"US0378331006", "x", 0, true}))
	refused(t, x, "cash", api.ErrUnknown, set(15, security{api.Cash, "ISSUER", 1, true}))
	refused(t, x, "issuer", api.ErrNotFound, set(15, security{isin, "NOBODY", 0, true}))
	refused(t, x, "issuer not yet", api.ErrNotFound, set(9, security{other, "ISSUER", 1, true}))
	refused(t, x, "lot", api.ErrRange, set(15, security{isin, "OTHER", 0, true}))
	refused(t, x, "lot", api.ErrRange, set(15, security{isin, "OTHER", api.MaxAmount + 1, true}))
	refused(t, x, "stale", api.ErrStale, set(19, security{isin, "OTHER", 1, true}))
	refused(t, x, "another issuer", api.ErrKind, set(20, security{isin, "OTHER", 1, true}))
	want(t, "same day", x.SetSecurity(20, security{isin, "ISSUER", api.MaxAmount, false}), api.OK)
	want(t, "inactive issuer", x.SetSecurity(0, security{other, "OTHER", 1, true}), api.OK)
	if s, ok := x.Security(20, isin); !ok || s != (security{isin, "ISSUER", api.MaxAmount, false}) {
		t.Error("replaced entry", s, ok)
	}
}

// P21.3
func TestPricesHaircuts(t *testing.T) {
	x := sample(t)
	price := func(day int, isin string, p int64) func() api.Errno {
		return func() api.Errno { return x.SetPrice(day, isin, p) }
	}
	haircut := func(day int, isin string, f fraction.Fraction) func() api.Errno {
		return func() api.Errno { return x.SetHaircut(day, isin, f) }
	}
	want(t, "price", x.SetPrice(25, isin, 1), api.OK)
	want(t, "price", x.SetPrice(30, isin, 1000000000), api.OK)
	want(t, "haircut", x.SetHaircut(25, isin, frac(0, 1)), api.OK)
	want(t, "haircut", x.SetHaircut(30, isin, frac(1, 1)), api.OK)
	want(t, "haircut", x.SetHaircut(30, isin, frac(1, 8)), api.OK)
	refused(t, x, "day", api.ErrDate, price(-1, isin, 0))
	refused(t, x, "day", api.ErrDate, haircut(date.MaxDay+1, isin, fraction.Fraction{}))
	refused(t, x, "security", api.ErrNotFound, price(19, isin, 0))
	refused(t, x, "security", api.ErrNotFound, haircut(30, other, fraction.Fraction{}))
	refused(t, x, "price", api.ErrRange, price(29, isin, 0))
	refused(t, x, "price", api.ErrRange, price(30, isin, 1000000001))
	for _, f := range []fraction.Fraction{{}, frac(-1, 8), frac(9, 8), {Num: 2, Den: 4}, {Num: 1, Den: -2}} {
		refused(t, x, "haircut "+f.String(), api.ErrRange, haircut(29, isin, f))
	}
	refused(t, x, "stale price", api.ErrStale, price(29, isin, 5))
	refused(t, x, "stale haircut", api.ErrStale, haircut(29, isin, frac(1, 2)))
	for _, y := range []struct {
		day   int
		price int64
		from  int
		ok    bool
	}{{24, 0, 0, false}, {25, 1, 25, true}, {29, 1, 25, true}, {30, 1000000000, 30, true}, {date.MaxDay, 1000000000, 30, true}, {date.MaxDay + 1, 0, 0, false}, {-1, 0, 0, false}} {
		if p, from, ok := x.Price(y.day, isin); p != y.price || from != y.from || ok != y.ok {
			t.Error("Price", y, p, from, ok)
		}
	}
	if f, ok := x.Haircut(29, isin); f != frac(0, 1) || !ok {
		t.Error("Haircut", f, ok)
	}
	if f, ok := x.Haircut(31, isin); f != frac(1, 8) || !ok {
		t.Error("Haircut", f, ok)
	}
	if f, ok := x.Haircut(24, isin); f != (fraction.Fraction{}) || ok {
		t.Error("Haircut", f, ok)
	}
	if _, ok := x.Haircut(date.MaxDay+1, isin); ok {
		t.Error("not a day")
	}
}

// P21.4
func TestLists(t *testing.T) {
	x := sample(t)
	x.SetMember(5, member{"BANKA", "", true})
	x.SetMember(25, member{"BANKA", "", false})
	x.SetMember(25, member{"ABANK", "", true})
	x.SetSecurity(25, security{other, "BANKA", 1, true})
	x.SetSecurity(30, security{isin, "ISSUER", 1, false})
	x.SetPrice(27, isin, 5)
	x.SetHaircut(28, isin, frac(1, 2))
	for day, want := range map[int][]string{4: nil, 5: {"BANKA"}, 10: {"BANKA", "ISSUER"}, 24: {"BANKA", "ISSUER"}, 25: {"ABANK", "ISSUER"}, date.MaxDay: {"ABANK", "ISSUER"}, date.MaxDay + 1: nil, -1: nil, math.MinInt: nil, math.MaxInt: nil} {
		if got := x.Members(day); !slices.Equal(got, want) {
			t.Error("Members", day, got)
		}
	}
	for day, want := range map[int][]string{19: nil, 20: {isin}, 25: {isin, other}, 30: {other}, -1: nil, date.MaxDay + 1: nil} {
		if got := x.Securities(day); !slices.Equal(got, want) {
			t.Error("Securities", day, got)
		}
	}
	if !slices.Equal(x.IssuedBy(25, "BANKA"), []string{other}) || !slices.Equal(x.IssuedBy(25, "ISSUER"), []string{isin}) || len(x.IssuedBy(30, "ISSUER")) != 0 || len(x.IssuedBy(25, "")) != 0 || len(x.IssuedBy(date.MaxDay+1, "BANKA")) != 0 {
		t.Error("IssuedBy")
	}
	if !slices.Equal(x.Days(), []int{5, 10, 20, 25, 27, 28, 30}) || len(refdata.New().Days()) != 0 {
		t.Error("Days", x.Days())
	}
	if m, ok := x.Member(26, "BANKA"); m != (member{"BANKA", "", false}) || !ok {
		t.Error("inactive member", m, ok)
	}
	if m, ok := x.Member(-1, "BANKA"); m != (member{}) || ok {
		t.Error("not a day", m, ok)
	}
	if s, ok := x.Security(19, isin); s != (security{}) || ok {
		t.Error("not yet", s, ok)
	}
	if s, ok := x.Security(31, isin); s.Active || !ok {
		t.Error("inactive security", s, ok)
	}
	if _, ok := x.Security(date.MaxDay+1, isin); ok {
		t.Error("not a day")
	}
}

// P21.5 P21.6
func TestCloneEqual(t *testing.T) {
	make := func() *refdata.Table {
		x := sample(t)
		x.SetPrice(20, isin, 5)
		x.SetHaircut(20, isin, frac(1, 2))
		return x
	}
	x := make()
	for name, change := range map[string]func(x *refdata.Table){
		"member":   func(x *refdata.Table) { x.SetMember(10, member{"ISSUER", lei(2), true}) },
		"entry":    func(x *refdata.Table) { x.SetMember(11, member{"ISSUER", lei(1), true}) },
		"active":   func(x *refdata.Table) { x.SetMember(10, member{"ISSUER", lei(1), false}) },
		"new":      func(x *refdata.Table) { x.SetMember(10, member{"BANKA", "", false}) },
		"security": func(x *refdata.Table) { x.SetSecurity(20, security{isin, "ISSUER", 9, true}) },
		"price":    func(x *refdata.Table) { x.SetPrice(20, isin, 6) },
		"later":    func(x *refdata.Table) { x.SetPrice(21, isin, 5) },
		"haircut":  func(x *refdata.Table) { x.SetHaircut(20, isin, frac(1, 3)) },
	} {
		c := x.Clone()
		if !c.Equal(x) || !x.Equal(make()) {
			t.Fatal("clone is not equal")
		}
		change(c)
		if c.Equal(x) || x.Equal(c) || !x.Equal(make()) {
			t.Error(name)
		}
	}
	// Both copies go on independently, and earlier days stay as they are.
	c := x.Clone()
	x.SetPrice(30, isin, 7)
	c.SetPrice(31, isin, 8)
	if p, day, _ := x.Price(40, isin); p != 7 || day != 30 {
		t.Error("original", p, day)
	}
	if p, day, _ := c.Price(40, isin); p != 8 || day != 31 {
		t.Error("copy", p, day)
	}
	if p, _, _ := c.Price(30, isin); p != 5 {
		t.Error("earlier day", p)
	}
}

// P21.5
func TestNil(t *testing.T) {
	var x *refdata.Table
	for _, e := range []api.Errno{x.SetMember(-1, member{}), x.SetSecurity(-1, security{}), x.SetPrice(-1, "", 0), x.SetHaircut(-1, "", fraction.Fraction{})} {
		want(t, "nil", e, api.ErrArgument)
	}
	_, a := x.Member(5, "BANKA")
	_, b := x.Security(5, isin)
	_, _, c := x.Price(5, isin)
	_, d := x.Haircut(5, isin)
	if a || b || c || d || len(x.Members(5)) != 0 || len(x.Securities(5)) != 0 || len(x.IssuedBy(5, "")) != 0 || len(x.Days()) != 0 || x.Clone() != nil || !x.Equal(nil) || x.Equal(refdata.New()) || refdata.New().Equal(x) {
		t.Error("nil table")
	}
}

// Example 1
func TestExample(t *testing.T) {
	x := refdata.New()
	x.SetMember(10, member{"BANKA", "", true})
	x.SetMember(20, member{"BANKA", "", false})
	_, early := x.Member(9, "BANKA")
	mid, _ := x.Member(15, "BANKA")
	late, _ := x.Member(25, "BANKA")
	if early || !mid.Active || late.Active || !slices.Equal(x.Members(15), []string{"BANKA"}) || len(x.Members(25)) != 0 {
		t.Error("example")
	}
	want(t, "stale", x.SetMember(19, member{"BANKA", "", true}), api.ErrStale)
}

// P21.1 P21.6: an entry replaces one of the same key and day.
func TestSameDay(t *testing.T) {
	a, b := refdata.New(), refdata.New()
	first, second := refdata.Member{Code: "BANKA"}, refdata.Member{Code: "BANKA", Active: true}
	a.SetMember(7, first)
	a.SetMember(7, second)
	b.SetMember(7, second)
	if m, found := a.Member(7, "BANKA"); m != second || !found || !a.Equal(b) {
		t.Error("replaced", m, found)
	}
	a.SetMember(8, first)
	a.SetMember(8, second)
	b.SetMember(8, second)
	if m, _ := a.Member(8, "BANKA"); m != second || !a.Equal(b) {
		t.Error("replaced later", m)
	}
}
