package account_test

import (
	"math"
	"slices"
	"testing"

	"giro/account"
	"giro/api"
)

const (
	isin  = "US0378331005"
	other = "XS0000000009"
	most  = int64(api.MaxAmount)
)

func acc(owner string, kind int, asset string) api.Account {
	return api.Account{Owner: owner, Kind: kind, Asset: asset}
}

func want(t *testing.T, what string, got, e api.Errno) {
	t.Helper()
	if got != e {
		t.Errorf("%s: error %d, want %d", what, got, e)
	}
}

func balance(t *testing.T, a *account.Accounts, k api.Account, x int64) {
	t.Helper()
	if got := a.Balance(k); got != x {
		t.Error("balance of", k, got, "want", x)
	}
}

// sample has 100 cash and 50 units at BANKA.
func sample(t *testing.T) *account.Accounts {
	t.Helper()
	a := account.New()
	want(t, "cash", a.Issue("CB", api.Cash, "BANKA", 100), api.OK)
	want(t, "units", a.Issue("ISSUER", isin, "BANKA", 50), api.OK)
	return a
}

// P15.1
func TestPost(t *testing.T) {
	from, to := acc("BANKA", api.Free, api.Cash), acc("BANKB", api.Free, api.Cash)
	move := func(x int64) []api.Posting { return []api.Posting{{Account: from, Delta: -x}, {Account: to, Delta: x}} }
	with := func(k api.Account) []api.Posting { return append(move(0), api.Posting{Account: k}) }
	for _, x := range []struct {
		name string
		l    []api.Posting
		e    api.Errno
	}{
		{"empty", nil, api.ErrArgument},
		{"owner", with(acc("BAN", 0, api.Cash)), api.ErrUnknown},
		{"no owner", with(acc("", 0, api.Cash)), api.ErrUnknown},
		{"lower case", with(acc("cb", 0, api.Cash)), api.ErrUnknown},
		{"asset", with(acc("BANKA", 0, "US0378331006")), api.ErrUnknown},
		{"kind", with(acc("BANKA", 5, api.Cash)), api.ErrUnknown},
		{"kind", with(acc("BANKA", -1, api.Cash)), api.ErrUnknown},
		{"reserved units", with(acc("BANKA", api.Reserved, isin)), api.ErrUnknown},
		{"earmarked cash", with(acc("BANKA", api.Earmarked, api.Cash)), api.ErrUnknown},
		{"pledged cash", with(acc("BANKA", api.Pledged, api.Cash)), api.ErrUnknown},
		{"unknown first", []api.Posting{{Account: from, Delta: math.MinInt64}, {Account: acc("x", 0, isin)}}, api.ErrUnknown},
		{"overflow", []api.Posting{{Account: from, Delta: most + 1}}, api.ErrOverflow},
		{"unbalanced", []api.Posting{{Account: from, Delta: -1}, {Account: acc("BANKB", 0, isin), Delta: 1}}, api.ErrUnbalanced},
		{"funds", move(101), api.ErrFunds},
		{"issued funds", []api.Posting{{Account: acc("ISSUER", api.Issued, isin), Delta: -most}, {Account: acc("BANKB", 0, isin), Delta: most}}, api.ErrOverflow},
		{"limit", make([]api.Posting, 4097), api.ErrUnknown},
		{"ok", move(100), api.OK},
		{"kinds", slices.Concat(with(acc("CB", api.Issued, api.Cash)), with(acc("BANKA", api.Reserved, api.Cash)), with(acc("CB", api.Pledged, isin)), with(acc("BANKA", api.Issued, api.Cash))), api.OK},
		{"issue", []api.Posting{{Account: acc("NEWONE", api.Issued, other), Delta: -7}, {Account: acc("CB", 0, other), Delta: 7}}, api.OK},
	} {
		a := sample(t)
		before := a.Clone()
		want(t, x.name+" Check", a.Check(x.l), x.e)
		if !a.Equal(before) {
			t.Error(x.name, "Check changes the accounts")
		}
		want(t, x.name+" Post", a.Post(x.l), x.e)
		if (x.e == api.OK) == a.Equal(before) || x.e == api.OK && a.Sequence() != 3 {
			t.Error(x.name, "Post")
		}
	}
	a := sample(t)
	many := make([]api.Posting, 4097)
	for i := range many {
		many[i].Account = from
	}
	want(t, "too many", a.Post(many), api.ErrLimit)
	before := a.Clone()
	want(t, "refused issue", a.Post([]api.Posting{{Account: acc("NEWONE", api.Issued, other), Delta: -7}, {Account: acc("CB", 0, other), Delta: 6}}), api.ErrUnbalanced)
	if !a.Equal(before) {
		t.Error("a refused issue changes the accounts")
	}
}

// P15.2
func TestMovements(t *testing.T) {
	a := sample(t)
	balance(t, a, acc("CB", api.Issued, api.Cash), -100)
	balance(t, a, acc("ISSUER", api.Issued, isin), -50)
	want(t, "Transfer", a.Transfer(api.Cash, "BANKA", "CB", 30), api.OK)
	want(t, "Transfer", a.Transfer(isin, "BANKA", "BANKB", 20), api.OK)
	balance(t, a, acc("CB", api.Free, api.Cash), 30)
	balance(t, a, acc("BANKB", api.Free, isin), 20)
	want(t, "Reserve", a.Reserve("BANKA", 25), api.OK)
	want(t, "Earmark", a.Earmark("BANKA", isin, 11), api.OK)
	want(t, "Pledge", a.Pledge("BANKA", isin, 12), api.OK)
	balance(t, a, acc("BANKA", api.Free, api.Cash), 45)
	balance(t, a, acc("BANKA", api.Reserved, api.Cash), 25)
	balance(t, a, acc("BANKA", api.Free, isin), 7)
	balance(t, a, acc("BANKA", api.Earmarked, isin), 11)
	balance(t, a, acc("BANKA", api.Pledged, isin), 12)
	want(t, "Unreserve", a.Unreserve("BANKA", 26), api.ErrFunds)
	want(t, "Unreserve", a.Unreserve("BANKA", 24), api.OK)
	want(t, "Unearmark", a.Unearmark("BANKA", isin, 10), api.OK)
	want(t, "Unpledge", a.Unpledge("BANKA", isin, 10), api.OK)
	balance(t, a, acc("BANKA", api.Reserved, api.Cash), 1)
	balance(t, a, acc("BANKA", api.Free, isin), 27)
	want(t, "Redeem", a.Redeem("ISSUER", isin, "BANKB", 15), api.OK)
	balance(t, a, acc("ISSUER", api.Issued, isin), -35)
	balance(t, a, acc("BANKB", api.Free, isin), 5)
	want(t, "Redeem", a.Redeem("CB", api.Cash, "BANKA", 5), api.OK)
	if a.Sequence() != 12 {
		t.Error("Sequence", a.Sequence())
	}
}

// P15.2
func TestMovementErrors(t *testing.T) {
	a := sample(t)
	before := a.Clone()
	for name, x := range map[string]struct{ got, e api.Errno }{
		"issuer":          {a.Issue("x", isin, "BANKA", 0), api.ErrUnknown},
		"issue to":        {a.Issue("CB", isin, "x", 0), api.ErrUnknown},
		"issue asset":     {a.Issue("CB", "x", "BANKA", 0), api.ErrUnknown},
		"issue kind":      {a.Issue("CB", isin, "BANKA", 0), api.ErrKind},
		"issue kind 2":    {a.Issue("BANKA", api.Cash, "BANKA", 0), api.ErrKind},
		"issue range":     {a.Issue("CB", api.Cash, "BANKA", 0), api.ErrRange},
		"issue range 2":   {a.Issue("CB", api.Cash, "BANKA", most+1), api.ErrRange},
		"issue overflow":  {a.Issue("CB", api.Cash, "BANKA", most), api.ErrOverflow},
		"redeem kind":     {a.Redeem("CB", isin, "BANKA", -1), api.ErrKind},
		"redeem range":    {a.Redeem("CB", api.Cash, "BANKA", -1), api.ErrRange},
		"redeem too much": {a.Redeem("CB", api.Cash, "BANKA", 101), api.ErrFunds},
		"redeem other":    {a.Redeem("CB", api.Cash, "BANKB", 100), api.ErrFunds},
		"transfer self":   {a.Transfer(api.Cash, "BANKA", "BANKA", 0), api.ErrArgument},
		"transfer self 2": {a.Transfer(api.Cash, "x", "x", 0), api.ErrUnknown},
		"transfer range":  {a.Transfer(api.Cash, "BANKA", "BANKB", math.MinInt64), api.ErrRange},
		"transfer asset":  {a.Transfer("", "BANKA", "BANKB", 1), api.ErrUnknown},
		"transfer funds":  {a.Transfer(api.Cash, "BANKA", "BANKB", 101), api.ErrFunds},
		"reserve":         {a.Reserve("", 0), api.ErrUnknown},
		"reserve range":   {a.Reserve("BANKA", 0), api.ErrRange},
		"reserve funds":   {a.Reserve("BANKA", 101), api.ErrFunds},
		"unreserve":       {a.Unreserve("BANKA", 1), api.ErrFunds},
		"earmark cash":    {a.Earmark("BANKA", api.Cash, 0), api.ErrUnknown},
		"unearmark cash":  {a.Unearmark("BANKA", api.Cash, 1), api.ErrUnknown},
		"earmark funds":   {a.Earmark("BANKA", isin, 51), api.ErrFunds},
		"unearmark":       {a.Unearmark("BANKA", isin, 1), api.ErrFunds},
		"pledge cash":     {a.Pledge("BANKA", api.Cash, 1), api.ErrUnknown},
		"unpledge cash":   {a.Unpledge("BANKA", api.Cash, 1), api.ErrUnknown},
		"pledge range":    {a.Pledge("BANKA", isin, most+1), api.ErrRange},
		"unpledge":        {a.Unpledge("BANKA", isin, 1), api.ErrFunds},
	} {
		want(t, name, x.got, x.e)
	}
	if !a.Equal(before) {
		t.Error("a refused movement changes the accounts")
	}
	// What one issuer has issued may be returned to another one.
	want(t, "second issuer", a.Redeem("OTHER", isin, "BANKA", 50), api.OK)
	balance(t, a, acc("OTHER", api.Issued, isin), 50)
	want(t, "nothing outstanding", a.Redeem("OTHER", isin, "BANKA", 1), api.ErrFunds)
}

// P15.3
func TestLines(t *testing.T) {
	a := sample(t)
	for _, x := range []struct {
		owner string
		line  int64
		e     api.Errno
	}{{"CB", -1, api.ErrUnknown}, {"x", 5, api.ErrUnknown}, {"BANKA", -1, api.ErrRange}, {"BANKA", most + 1, api.ErrRange}, {"BANKA", most, api.OK}, {"BANKA", 50, api.OK}} {
		want(t, "SetLine", a.SetLine(x.owner, x.line), x.e)
	}
	if a.Line("BANKA") != 50 || a.Line("BANKB") != 0 || a.Line("CB") != 0 || a.Line("x") != 0 || a.Usage("BANKA") != 0 {
		t.Error("Line", a.Line("BANKA"))
	}
	want(t, "overdraft", a.Transfer(api.Cash, "BANKA", "BANKB", 140), api.OK)
	if a.Usage("BANKA") != 40 || a.Usage("BANKB") != 0 {
		t.Error("Usage", a.Usage("BANKA"))
	}
	want(t, "used line", a.SetLine("BANKA", 39), api.ErrFunds)
	want(t, "used line", a.SetLine("BANKA", 40), api.OK)
	want(t, "beyond", a.Transfer(api.Cash, "BANKA", "BANKB", 1), api.ErrFunds)
	want(t, "reserve on credit", a.Reserve("BANKA", 1), api.ErrFunds)
	want(t, "securities have no line", a.Transfer(isin, "BANKA", "BANKB", 51), api.ErrFunds)
}

// P15.4
func TestBalances(t *testing.T) {
	a := sample(t)
	a.SetLine("BANKA", 30)
	for _, x := range []struct {
		k                         api.Account
		balance, floor, available int64
	}{
		{acc("BANKA", api.Free, api.Cash), 100, -30, 130}, {acc("BANKA", api.Free, isin), 50, 0, 50}, {acc("BANKA", api.Reserved, api.Cash), 0, 0, 0},
		{acc("CB", api.Issued, api.Cash), -100, math.MinInt64, 0}, {acc("NOBODY", api.Issued, isin), 0, math.MinInt64, 0}, {acc("x", api.Issued, isin), 0, 0, 0},
		{acc("BANKA", api.Pledged, api.Cash), 0, 0, 0}, {acc("BANKB", api.Free, api.Cash), 0, 0, 0},
	} {
		if a.Balance(x.k) != x.balance || a.Floor(x.k) != x.floor || a.Available(x.k) != x.available {
			t.Error(x.k, a.Balance(x.k), a.Floor(x.k), a.Available(x.k))
		}
	}
	// An issuer's account with a positive balance is not available either.
	a.Redeem("OTHER", isin, "BANKA", 5)
	if a.Available(acc("OTHER", api.Issued, isin)) != 0 {
		t.Error("issuer's account is available")
	}
	a.Transfer(api.Cash, "BANKA", "BANKB", 130)
	if a.Available(acc("BANKA", api.Free, api.Cash)) != 0 {
		t.Error("Available at the floor")
	}
}

// P15.5
func TestHoldings(t *testing.T) {
	a := sample(t)
	a.Issue("BANKA", other, "ZBANK", 9)
	a.Issue("ISSUER", isin, "BANKB", 5)
	a.Issue("ISSU2", isin, "CB", 6)
	a.Reserve("BANKA", 10)
	a.Earmark("BANKA", isin, 20)
	a.Pledge("BANKA", isin, 30)
	a.Transfer(isin, "BANKB", "CB", 5)
	if a.Holding("BANKA", api.Cash) != 100 || a.Holding("BANKA", isin) != 50 || a.Holding("ISSUER", isin) != 0 || a.Holding("CB", isin) != 11 || a.Holding("BANKA", "x") != 0 {
		t.Error("Holding")
	}
	if a.Outstanding(isin) != 61 || a.Outstanding(api.Cash) != 100 || a.Outstanding("x") != 0 {
		t.Error("Outstanding", a.Outstanding(isin))
	}
	if !slices.Equal(a.Holders(isin), []string{"BANKA", "CB"}) || !slices.Equal(a.Holders(other), []string{"ZBANK"}) || len(a.Holders("x")) != 0 {
		t.Error("Holders", a.Holders(isin))
	}
	if !slices.Equal(a.Assets(), []string{api.Cash, isin, other}) {
		t.Error("Assets", a.Assets())
	}
	a.SetLine("BANKA", 50)
	a.Transfer(api.Cash, "BANKA", "BANKB", 100)
	if !slices.Equal(a.Holders(api.Cash), []string{"BANKB"}) {
		t.Error("an owner without a positive holding is listed", a.Holders(api.Cash))
	}
}

// P15.5
func TestAll(t *testing.T) {
	a := sample(t)
	a.Pledge("BANKA", isin, 50)
	var keys []api.Account
	var sum int64
	for k, x := range a.All() {
		keys = append(keys, k)
		sum += x
	}
	if !slices.Equal(keys, []api.Account{acc("CB", api.Issued, api.Cash), acc("BANKA", api.Free, api.Cash), acc("ISSUER", api.Issued, isin), acc("BANKA", api.Free, isin), acc("BANKA", api.Pledged, isin)}) || sum != 0 {
		t.Error(keys, sum)
	}
	n := 0
	for range a.All() {
		n++
		break
	}
	if n != 1 {
		t.Error("iteration goes on")
	}
}

// P15.6 P15.7
func TestCloneEqual(t *testing.T) {
	a := sample(t)
	for name, change := range map[string]func(a *account.Accounts){
		"balance":  func(a *account.Accounts) { a.Transfer(isin, "BANKA", "BANKB", 1) },
		"line":     func(a *account.Accounts) { a.SetLine("BANKB", 1) },
		"sequence": func(a *account.Accounts) { a.Post([]api.Posting{{Account: acc("BANKA", 0, isin)}}) },
		"issue":    func(a *account.Accounts) { a.Issue("NEWONE", other, "CB", 1) },
	} {
		c := a.Clone()
		if !c.Equal(a) || !a.Equal(sample(t)) {
			t.Fatal("clone is not equal")
		}
		change(c)
		if c.Equal(a) || !a.Equal(sample(t)) {
			t.Error(name)
		}
	}
	c := a.Clone()
	c.SetLine("BANKB", 5)
	c.SetLine("BANKB", 0)
	if !c.Equal(a) {
		t.Error("a line of 0 is a line")
	}
	x, y := account.New(), account.New()
	x.Issue("CB", api.Cash, "BANKA", 1)
	x.Issue("ISSUER", isin, "BANKA", 1)
	y.Issue("ISSUER", isin, "BANKA", 1)
	y.Issue("CB", api.Cash, "BANKA", 1)
	if x.Equal(y) {
		t.Error("another order is equal")
	}
}

// P15.8
func TestNil(t *testing.T) {
	var a *account.Accounts
	for _, e := range []api.Errno{a.Issue("", "", "", 0), a.Redeem("", "", "", 0), a.Transfer("", "", "", 0), a.Reserve("", 0), a.Unreserve("", 0),
		a.Earmark("", "", 0), a.Unearmark("", "", 0), a.Pledge("", "", 0), a.Unpledge("", "", 0), a.SetLine("", 0), a.Check(nil), a.Post(nil)} {
		want(t, "nil", e, api.ErrArgument)
	}
	for range a.All() {
		t.Error("nil has accounts")
	}
	k := acc("CB", api.Issued, api.Cash)
	if a.Line("BANKA") != 0 || a.Usage("BANKA") != 0 || a.Balance(k) != 0 || a.Floor(k) != 0 || a.Available(k) != 0 || a.Holding("BANKA", isin) != 0 ||
		a.Outstanding(isin) != 0 || len(a.Holders(isin)) != 0 || len(a.Assets()) != 0 || a.Sequence() != 0 || a.Clone() != nil || !a.Equal(nil) || a.Equal(account.New()) || account.New().Equal(a) {
		t.Error("nil accounts")
	}
}

// Example 1
func TestExample(t *testing.T) {
	a := account.New()
	a.Issue(account.CentralBank, api.Cash, "BANKA", 100)
	a.SetLine("BANKA", 50)
	want(t, "130", a.Transfer(api.Cash, "BANKA", "BANKB", 130), api.OK)
	balance(t, a, acc("BANKA", 0, api.Cash), -30)
	if a.Usage("BANKA") != 30 || a.Available(acc("BANKA", 0, api.Cash)) != 20 {
		t.Error("Usage")
	}
	want(t, "21", a.Transfer(api.Cash, "BANKA", "BANKB", 21), api.ErrFunds)
}

// P15.1 P15.5: an issuer's account has no floor wherever its posting stands, and one unit makes a holder.
func TestOneUnit(t *testing.T) {
	a := account.New()
	isin := "US0378331005"
	want(t, "post", a.Post([]api.Posting{{Account: acc("BANKA", api.Free, isin), Delta: 1}, {Account: acc("ISSUER", api.Issued, isin), Delta: -1}}), api.OK)
	if l := a.Holders(isin); !slices.Equal(l, []string{"BANKA"}) {
		t.Error("holders", l)
	}
}
