package delivery_test

import (
	"math"
	"slices"
	"testing"

	"giro/api"
	"giro/delivery"
	"giro/matching"
	"giro/message"
	"giro/resource"
)

type (
	leg     = delivery.Leg
	posting = api.Posting
	trade   = matching.Trade
)

const (
	isin  = "US0378331005"
	other = "XS0000000009"
	most  = int64(api.MaxAmount)
)

func dvp() trade {
	return trade{Kind: message.DvP, Deliverer: "BANKA", Receiver: "BANKB", Asset: isin, Quantity: 100, Amount: 2500000, TradeDay: 3, SettleDay: 5, Priority: 1, Partial: true, MinLot: 10, Refs: [2]string{"D", "R"}}
}

func free() trade {
	t := dvp()
	t.Kind, t.Amount = message.Free, 0
	return t
}

func bad() trade {
	t := dvp()
	t.Refs[1] = ""
	return t
}

func post(owner string, kind int, asset string, d int64) posting {
	return posting{Account: api.Account{Owner: owner, Kind: kind, Asset: asset}, Delta: d}
}

// P39.1
func TestPostings(t *testing.T) {
	securities, cash := leg{"BANKA", "BANKB", isin, 100}, leg{"BANKB", "BANKA", api.Cash, 2500000}
	for _, x := range []struct {
		t        trade
		source   int
		legs     []leg
		postings []posting
	}{
		{dvp(), api.Free, []leg{securities, cash}, []posting{post("BANKA", 0, isin, -100), post("BANKB", 0, isin, 100), post("BANKB", 0, api.Cash, -2500000), post("BANKA", 0, api.Cash, 2500000)}},
		{dvp(), api.Earmarked, []leg{securities, cash}, []posting{post("BANKA", api.Earmarked, isin, -100), post("BANKB", 0, isin, 100), post("BANKB", 0, api.Cash, -2500000), post("BANKA", 0, api.Cash, 2500000)}},
		{free(), api.Earmarked, []leg{securities}, []posting{post("BANKA", api.Earmarked, isin, -100), post("BANKB", 0, isin, 100)}},
	} {
		l, e1 := delivery.Legs(x.t)
		p, e2 := delivery.Postings(x.t, x.source)
		if !slices.Equal(l, x.legs) || !slices.Equal(p, x.postings) || e1 != api.OK || e2 != api.OK {
			t.Error(l, p, e1, e2)
		}
	}
	p, e := delivery.Payments(dvp())
	if !slices.Equal(p, []resource.Payment{{From: "BANKB", To: "BANKA", Amount: 2500000}}) || e != api.OK {
		t.Error("Payments", p, e)
	}
	if p, e := delivery.Payments(free()); len(p) != 0 || e != api.OK {
		t.Error("Payments of a free delivery", p, e)
	}
	l, e1 := delivery.Legs(bad())
	q, e2 := delivery.Postings(bad(), 9)
	p, e3 := delivery.Payments(bad())
	a, e4 := delivery.Earmark(bad())
	b, e5 := delivery.Release(bad())
	if len(l)+len(q)+len(p)+len(a)+len(b) != 0 {
		t.Error("results with an error")
	}
	for n, e := range []api.Errno{e1, e2, e3, e4, e5} {
		if e != api.ErrUnknown {
			t.Error("function", n, e)
		}
	}
	for _, source := range []int{-1, api.Reserved, api.Pledged, api.Issued, 5} {
		if p, e := delivery.Postings(dvp(), source); len(p) != 0 || e != api.ErrKind {
			t.Error("source", source, e)
		}
	}
}

// P39.2
func TestItem(t *testing.T) {
	after := []int{4, 2}
	got, e := delivery.Item(dvp(), api.Earmarked, 7, 8, after)
	postings, _ := delivery.Postings(dvp(), api.Earmarked)
	payments, _ := delivery.Payments(dvp())
	after[0] = 9
	want := resource.Item{Id: 7, Priority: 1, Seq: 8, Postings: postings, Payments: payments, After: []int{4, 2}}
	if !resource.Equal(resource.Problem{Items: []resource.Item{got}}, resource.Problem{Items: []resource.Item{want}}) || e != api.OK {
		t.Error(got, e)
	}
	for n, x := range []struct {
		t               trade
		source, id, seq int
		after           []int
		e               api.Errno
	}{{bad(), 9, -1, 0, nil, api.ErrUnknown}, {dvp(), 9, -1, 0, nil, api.ErrKind}, {dvp(), 0, -1, 0, nil, api.ErrRange}, {dvp(), 0, 1, 1, []int{1}, api.ErrDuplicate}} {
		if got, e := delivery.Item(x.t, x.source, x.id, x.seq, x.after); e != x.e || got.Postings != nil || got.Payments != nil {
			t.Error("Item", n, e)
		}
	}
}

// P39.3
func TestNet(t *testing.T) {
	got, e := delivery.Net([]posting{post("B", 0, "X", 5), post("A", 3, "X", -1), post("A", 0, "Y", 1), post("A", 0, "X", 7), post("B", 0, "X", -5), post("A", 0, "X", -8), post("?", 9, "", 2)})
	if !slices.Equal(got, []posting{post("?", 9, "", 2), post("A", 0, "X", -1), post("A", 3, "X", -1), post("A", 0, "Y", 1)}) || e != api.OK {
		t.Error(got, e)
	}
	many := make([]posting, 4097)
	many[0].Delta = math.MinInt64
	up := slices.Repeat([]posting{post("A", 0, "X", most)}, 2048)
	for n, x := range []struct {
		l []posting
		e api.Errno
	}{
		{nil, api.OK}, {many, api.ErrLimit}, {many[1:], api.OK}, {many[:1], api.ErrOverflow}, {[]posting{post("A", 0, "X", most+1)}, api.ErrOverflow}, {up, api.ErrOverflow}, {slices.Concat(up, slices.Repeat([]posting{post("A", 0, "X", -most)}, 2048)), api.OK},
	} {
		if got, e := delivery.Net(x.l); len(got) != 0 || e != x.e {
			t.Error("Net", n, len(got), e)
		}
	}
}

// P39.4
func TestDecompose(t *testing.T) {
	simple := []posting{post("B", 0, "Y", 5), post("A", 0, "X", -3), post("A", 0, "Y", -5), post("B", 0, "X", 3)}
	got, e := delivery.Decompose(simple)
	if !slices.Equal(got, []leg{{"A", "B", "X", 3}, {"A", "B", "Y", 5}}) || e != api.OK {
		t.Error(got, e)
	}
	with := func(n int, p posting) []posting { l := slices.Clone(simple); l[n] = p; return l }
	for n, x := range []struct {
		l []posting
		e api.Errno
	}{
		{nil, api.ErrArgument}, {make([]posting, 4097), api.ErrLimit}, {make([]posting, 4096), api.ErrFormat}, {with(0, post("B", 1, "Y", 5)), api.ErrFormat}, {with(0, post("B", 0, "Y", 4)), api.ErrFormat}, {with(0, post("A", 0, "Y", 5)), api.ErrFormat},
		{simple[:3], api.ErrFormat}, {append(slices.Clone(simple), post("A", 0, "X", 0)), api.ErrFormat}, {append(slices.Clone(simple), post("C", 0, "X", 3)), api.ErrFormat}, {append(slices.Clone(simple), post("C", 0, "X", 3), post("D", 0, "X", -3)), api.ErrFormat},
		{[]posting{post("A", 0, "X", -most-1), post("B", 0, "X", most+1)}, api.ErrFormat}, {[]posting{post("A", 0, "X", math.MinInt64), post("B", 0, "X", math.MinInt64)}, api.ErrFormat},
		{[]posting{post("A", 0, "X", -1), post("A", 0, "Y", 1)}, api.ErrFormat}, {[]posting{post("A", 0, "X", -1), post("B", 0, "X", 1), post("A", 0, "X", -1), post("B", 0, "X", 1)}, api.ErrFormat},
		{[]posting{post("", 0, "", -1), post("B", 0, "", 1)}, api.OK}, {[]posting{post("A", 0, "X", -most), post("B", 0, "X", most)}, api.OK},
	} {
		got, e := delivery.Decompose(x.l)
		if e != x.e || (len(got) > 0) != (e == api.OK) {
			t.Error("Decompose", n, got, e)
		}
		if delivery.Versus(x.l) {
			t.Error("Versus", n)
		}
	}
}

// P39.4
func TestVersus(t *testing.T) {
	pair := func(from, to, asset string) []posting {
		return []posting{post(from, 0, asset, -5), post(to, 0, asset, 5)}
	}
	for n, x := range []struct {
		l    []posting
		want bool
	}{
		{slices.Concat(pair("A", "B", "X"), pair("B", "A", api.Cash)), true}, {slices.Concat(pair("A", "B", "X"), pair("A", "B", api.Cash)), false}, {slices.Concat(pair("A", "B", "X"), pair("C", "A", api.Cash)), false}, {slices.Concat(pair("A", "B", "X"), pair("B", "C", api.Cash)), false},
		{slices.Concat(pair("A", "B", "X"), pair("B", "A", "Y")), false}, {pair("A", "B", api.Cash), false}, {slices.Concat(pair("A", "B", "X"), pair("B", "A", api.Cash), pair("B", "A", "Y")), false}, {nil, false},
	} {
		if delivery.Versus(x.l) != x.want {
			t.Error("Versus", n)
		}
	}
}

// P39.5 P39.7
func TestReverse(t *testing.T) {
	x, e := delivery.Reverse(dvp(), [2]string{"D2", "R2"}, 9)
	want := dvp()
	want.Deliverer, want.Receiver, want.Refs, want.TradeDay, want.SettleDay = "BANKB", "BANKA", [2]string{"D2", "R2"}, 9, 9
	if x != want || e != api.OK {
		t.Error(x, e)
	}
	a, _ := delivery.Postings(dvp(), api.Free)
	b, _ := delivery.Postings(x, api.Free)
	if net, e := delivery.Net(append(a, b...)); len(net) != 0 || e != api.OK {
		t.Error("net of both", net, e)
	}
	for n, y := range []struct {
		t    trade
		refs [2]string
		day  int
		e    api.Errno
	}{{bad(), [2]string{"", ""}, -1, api.ErrUnknown}, {dvp(), [2]string{"A", ""}, 9, api.ErrUnknown}, {dvp(), [2]string{"", "A"}, -1, api.ErrDate}} {
		if x, e := delivery.Reverse(y.t, y.refs, y.day); x != (trade{}) || e != y.e {
			t.Error("Reverse", n, x, e)
		}
	}
}

// P39.6 P39.7
func TestEarmark(t *testing.T) {
	a, e1 := delivery.Earmark(dvp())
	b, e2 := delivery.Release(free())
	if !slices.Equal(a, []posting{post("BANKA", api.Free, isin, -100), post("BANKA", api.Earmarked, isin, 100)}) || !slices.Equal(b, []posting{post("BANKA", api.Earmarked, isin, -100), post("BANKA", api.Free, isin, 100)}) || e1 != api.OK || e2 != api.OK {
		t.Error(a, b, e1, e2)
	}
	for _, x := range []trade{dvp(), free()} {
		direct, _ := delivery.Postings(x, api.Free)
		later, _ := delivery.Postings(x, api.Earmarked)
		aside, _ := delivery.Earmark(x)
		n1, _ := delivery.Net(direct)
		n2, _ := delivery.Net(append(aside, later...))
		if !slices.Equal(n1, n2) {
			t.Error("net effect", n1, n2)
		}
		if delivery.Versus(direct) != (x.Kind == message.DvP) || delivery.Versus(later) {
			t.Error("Versus")
		}
		legs, _ := delivery.Legs(x)
		slices.Reverse(legs)
		if got, _ := delivery.Decompose(direct); !slices.Equal(got, legs) {
			t.Error("Decompose", got)
		}
	}
}

// Example 1
func TestExample(t *testing.T) {
	l, _ := delivery.Postings(dvp(), api.Free)
	if !slices.Equal(l, []posting{post("BANKA", 0, isin, -100), post("BANKB", 0, isin, 100), post("BANKB", 0, api.Cash, -2500000), post("BANKA", 0, api.Cash, 2500000)}) {
		t.Error(l)
	}
}
