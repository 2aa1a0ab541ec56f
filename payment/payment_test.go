package payment_test

import (
	"slices"
	"strconv"
	"testing"

	"giro/api"
	"giro/message"
	"giro/payment"
	"giro/resource"
)

type instruction = message.Instruction

const most = int64(api.MaxAmount)

func pay(ref, from, to string, amount int64) instruction {
	return instruction{Ref: ref, Kind: message.Payment, Sender: from, Counterparty: to, Asset: api.Cash, Amount: amount, SettleDay: 9}
}

func cash(owner string, kind int) api.Account {
	return api.Account{Owner: owner, Kind: kind, Asset: api.Cash}
}

// P38.1 P38.2
func TestItem(t *testing.T) {
	i := pay("P", "BANKA", "BANKB", 7)
	i.Priority = 1
	l, e := payment.Postings(i)
	if !slices.Equal(l, []api.Posting{{Account: cash("BANKA", api.Free), Delta: -7}, {Account: cash("BANKB", api.Free), Delta: 7}}) || e != api.OK {
		t.Error(l, e)
	}
	after := []int{5, 3}
	x, e := payment.Item(i, 8, 9, after)
	want := resource.Item{Id: 8, Priority: 1, Seq: 9, Postings: l, Payments: []resource.Payment{{From: "BANKA", To: "BANKB", Amount: 7}}, After: []int{5, 3}}
	after[0] = 77
	if !resource.Equal(resource.Problem{Items: []resource.Item{x}}, resource.Problem{Items: []resource.Item{want}}) || e != api.OK {
		t.Error(x, e)
	}
	i.Priority, i.Reserve = 2, true
	l, e = payment.Postings(i)
	if !slices.Equal(l, []api.Posting{{Account: cash("BANKA", api.Reserved), Delta: -7}, {Account: cash("BANKB", api.Free), Delta: 7}}) || e != api.OK {
		t.Error("reserve", l, e)
	}
	free := instruction{Ref: "F", Kind: message.Free, Sender: "BANKA", Counterparty: "BANKB", Asset: "US0378331005", Quantity: 1}
	bad := pay("P", "BANKA", "BANKA", 1)
	for n, y := range []struct {
		i       instruction
		id, seq int
		after   []int
		e       api.Errno
	}{{bad, -1, 0, nil, api.ErrArgument}, {free, -1, 0, nil, api.ErrKind}, {i, -1, 0, nil, api.ErrRange}, {i, 0, -1, nil, api.ErrRange}, {i, 1, 1, []int{1}, api.ErrDuplicate}, {i, 1, 1, make([]int, 257), api.ErrLimit}} {
		x, e := payment.Item(y.i, y.id, y.seq, y.after)
		if e != y.e || x.Postings != nil || x.Priority != 0 {
			t.Error("Item", n, x, e)
		}
		if n < 2 {
			l, e := payment.Postings(y.i)
			r, e2 := payment.Return(y.i, "", -1)
			if len(l) != 0 || e != y.e || !message.Equal(r, instruction{}) || e2 != y.e {
				t.Error("Postings, Return", n, e, e2)
			}
		}
	}
}

// P38.3
func TestReturn(t *testing.T) {
	i := pay("P", "BANKA", "BANKB", 7)
	i.Priority, i.Reserve, i.Hold, i.Links = 2, true, true, []message.Link{{Type: 0, Ref: "X"}}
	r, e := payment.Return(i, "R", 12)
	want := pay("R", "BANKB", "BANKA", 7)
	want.SettleDay = 12
	if !message.Equal(r, want) || e != api.OK {
		t.Error(r, e)
	}
	for _, x := range []struct {
		ref string
		day int
		e   api.Errno
	}{{"", -1, api.ErrUnknown}, {"R", -1, api.ErrDate}, {"R", 73049, api.ErrDate}} {
		if r, e := payment.Return(i, x.ref, x.day); !message.Equal(r, instruction{}) || e != x.e {
			t.Error("Return", x, e)
		}
	}
}

// random returns a list of payments among four members.
func random(seed uint64) []instruction {
	next := func(n int) int { seed = seed*6364136223846793005 + 1442695040888963407; return int(seed>>33) % n }
	members := []string{"BANKD", "BANKB", "BANKC", "BANKA"}
	var l []instruction
	for n := range next(12) {
		from := next(4)
		l = append(l, pay(strconv.Itoa(n), members[from], members[(from+1+next(3))%4], int64(1+next(30))))
	}
	return l
}

// P38.4 P38.5
func TestLists(t *testing.T) {
	for seed := range uint64(200) {
		l := random(seed)
		paid, received, balance, need := map[string]int64{}, map[string]int64{}, map[string]int64{}, map[string]int64{}
		nets := map[[2]string]int64{}
		var members []string
		for _, i := range l {
			members = append(members, i.Sender, i.Counterparty)
			paid[i.Sender] += i.Amount
			received[i.Counterparty] += i.Amount
			nets[[2]string{i.Sender, i.Counterparty}] += i.Amount
			nets[[2]string{i.Counterparty, i.Sender}] -= i.Amount
			balance[i.Sender] += i.Amount
			balance[i.Counterparty] -= i.Amount
			need[i.Sender] = max(need[i.Sender], balance[i.Sender])
		}
		slices.Sort(members)
		members = slices.Compact(members)
		var positions []payment.Position
		var needs, netNeeds []payment.Need
		var pairs []payment.Pair
		for _, m := range members {
			positions = append(positions, payment.Position{Member: m, Paid: paid[m], Received: received[m]})
			needs = append(needs, payment.Need{Member: m, Amount: need[m]})
			netNeeds = append(netNeeds, payment.Need{Member: m, Amount: max(0, paid[m]-received[m])})
			for _, o := range members {
				if n := nets[[2]string{m, o}]; n > 0 {
					pairs = append(pairs, payment.Pair{From: m, To: o, Net: n})
				}
			}
		}
		a, e1 := payment.Positions(l)
		b, e2 := payment.Pairs(l)
		c, e3 := payment.Needs(l)
		d, e4 := payment.NetNeeds(l)
		if !slices.Equal(a, positions) || !slices.Equal(b, pairs) || !slices.Equal(c, needs) || !slices.Equal(d, netNeeds) || e1 != api.OK || e2 != api.OK || e3 != api.OK || e4 != api.OK {
			t.Fatal("seed", seed, a, b, c, d)
		}
		for n := range c {
			if d[n].Amount > c[n].Amount {
				t.Error("a net need exceeds the need")
			}
		}
	}
}

// P38.4
func TestErrors(t *testing.T) {
	good := pay("P", "BANKA", "BANKB", 1)
	bad := pay("P", "", "BANKB", 1)
	many := slices.Repeat([]instruction{good}, 4096)
	for n, x := range []struct {
		l []instruction
		e api.Errno
	}{
		{append(slices.Clone(many), bad), api.ErrLimit}, {append(slices.Clone(many[1:]), bad), api.ErrUnknown}, {many, api.OK}, {[]instruction{pay("P", "BANKA", "BANKB", most), pay("P", "BANKB", "BANKA", 1)}, api.ErrOverflow}, {[]instruction{pay("P", "BANKA", "BANKB", most), pay("P", "BANKB", "BANKA", most), bad}, api.ErrUnknown}, {[]instruction{pay("P", "BANKA", "BANKB", most)}, api.OK}, {nil, api.OK},
	} {
		a, e1 := payment.Positions(x.l)
		b, e2 := payment.Pairs(x.l)
		c, e3 := payment.Needs(x.l)
		d, e4 := payment.NetNeeds(x.l)
		for _, e := range []api.Errno{e1, e2, e3, e4} {
			if e != x.e {
				t.Error("list", n, e)
			}
		}
		if x.e != api.OK && len(a)+len(b)+len(c)+len(d) != 0 {
			t.Error("results with an error", n)
		}
	}
}

// Example 1
func TestExample(t *testing.T) {
	l := []instruction{pay("A1", "BANKA", "BANKB", 50), pay("B1", "BANKB", "BANKA", 30)}
	a, _ := payment.Positions(l)
	b, _ := payment.Pairs(l)
	c, _ := payment.Needs(l)
	d, _ := payment.NetNeeds(l)
	slices.Reverse(l)
	f, _ := payment.Needs(l)
	if !slices.Equal(a, []payment.Position{{Member: "BANKA", Paid: 50, Received: 30}, {Member: "BANKB", Paid: 30, Received: 50}}) || !slices.Equal(b, []payment.Pair{{From: "BANKA", To: "BANKB", Net: 20}}) ||
		!slices.Equal(c, []payment.Need{{Member: "BANKA", Amount: 50}, {Member: "BANKB"}}) || !slices.Equal(d, []payment.Need{{Member: "BANKA", Amount: 20}, {Member: "BANKB"}}) || !slices.Equal(f, []payment.Need{{Member: "BANKA", Amount: 20}, {Member: "BANKB", Amount: 30}}) {
		t.Error(a, b, c, d, f)
	}
}
