package repo_test

import (
	"math"
	"math/big"
	"slices"
	"strconv"
	"testing"

	"giro/api"
	"giro/fraction"
	"giro/matching"
	"giro/message"
	"giro/repo"
)

const (
	isin = "US0378331005"
	most = int64(api.MaxAmount)
)

func frac(num, den int64) fraction.Fraction { f, _ := fraction.New(num, den); return f }

func agreement() repo.Repo {
	return repo.Repo{Ref: "R1", Seller: "BANKA", Buyer: "BANKB", ISIN: isin, Quantity: 50, Cash: 1000000, Rate: frac(1, 20), Opening: 100, Closing: 136}
}

// interest is Cash * Rate * n / 360, rounded half to even.
func interest(r repo.Repo, day int) int64 {
	x := new(big.Int).Mul(big.NewInt(r.Cash), big.NewInt(r.Rate.Num))
	x.Mul(x, big.NewInt(int64(day-r.Opening)))
	d := new(big.Int).Mul(big.NewInt(r.Rate.Den), big.NewInt(360))
	q, rest := new(big.Int).QuoRem(x, d, new(big.Int))
	c := rest.Lsh(rest, 1).Cmp(d)
	if c > 0 || c == 0 && q.Bit(0) == 1 {
		q.Add(q, big.NewInt(1))
	}
	return q.Int64()
}

// P41.1
func TestCheck(t *testing.T) {
	for n, x := range []struct {
		change func(r *repo.Repo)
		e      api.Errno
	}{
		{func(r *repo.Repo) {}, api.OK}, {func(r *repo.Repo) { r.Ref = "" }, api.ErrUnknown}, {func(r *repo.Repo) { r.Ref = "0123456789ABCDE" }, api.ErrUnknown}, {func(r *repo.Repo) { r.Ref = "0123456789ABCD" }, api.OK}, {func(r *repo.Repo) { r.Seller = "CB" }, api.ErrUnknown}, {func(r *repo.Repo) { r.Buyer = "" }, api.ErrUnknown},
		{func(r *repo.Repo) { r.Buyer, r.ISIN = "BANKA", "" }, api.ErrArgument}, {func(r *repo.Repo) { r.ISIN, r.Quantity = api.Cash, 0 }, api.ErrUnknown}, {func(r *repo.Repo) { r.Quantity, r.Opening = 0, -1 }, api.ErrRange}, {func(r *repo.Repo) { r.Quantity = most + 1 }, api.ErrRange}, {func(r *repo.Repo) { r.Cash = 0 }, api.ErrRange}, {func(r *repo.Repo) { r.Cash = most + 1 }, api.ErrRange},
		{func(r *repo.Repo) { r.Rate = frac(-1, 2) }, api.ErrRange}, {func(r *repo.Repo) { r.Rate = frac(3, 2) }, api.ErrRange}, {func(r *repo.Repo) { r.Rate = fraction.Fraction{} }, api.ErrRange}, {func(r *repo.Repo) { r.Rate = fraction.Fraction{Num: 2, Den: 4} }, api.ErrRange}, {func(r *repo.Repo) { r.Rate = frac(1, 1) }, api.OK}, {func(r *repo.Repo) { r.Rate = frac(0, 1) }, api.OK},
		{func(r *repo.Repo) { r.Opening, r.Cash, r.Rate = -1, most, frac(1, 1) }, api.ErrDate}, {func(r *repo.Repo) { r.Closing = 73049; r.Opening = 73048 }, api.ErrDate}, {func(r *repo.Repo) { r.Closing = 100 }, api.ErrDate}, {func(r *repo.Repo) { r.Closing = 99 }, api.ErrDate}, {func(r *repo.Repo) { r.Closing = 500 }, api.OK}, {func(r *repo.Repo) { r.Closing = 501 }, api.ErrDate}, {func(r *repo.Repo) { r.Opening, r.Closing = math.MinInt, math.MaxInt }, api.ErrDate},
		{func(r *repo.Repo) { r.Cash = most }, api.ErrOverflow}, {func(r *repo.Repo) { r.Cash, r.Rate = most, frac(0, 1) }, api.OK},
	} {
		r := agreement()
		x.change(&r)
		if e := r.Check(); e != x.e {
			t.Error("Check", n, e, "want", x.e)
		}
		if x.e == api.OK {
			continue
		}
		a, e1 := r.Interest(-5)
		b, e2 := r.Repayment()
		c, d, e3 := r.Legs()
		f, e4 := r.Roll("", 0, fraction.Fraction{})
		g, e5 := r.Net(repo.Repo{})
		h, e6 := r.Exposure(-5, 0)
		if a != 0 || b != 0 || c != (matching.Trade{}) || d != (matching.Trade{}) || f != (repo.Repo{}) || g != 0 || h != 0 {
			t.Error("results with an error", n)
		}
		for _, e := range []api.Errno{e1, e2, e3, e4, e5, e6, repo.NewBook().Add(r)} {
			if e != x.e {
				t.Error("error", n, e, x.e)
			}
		}
	}
}

// P41.1 P41.7
func TestInterest(t *testing.T) {
	for _, cash := range []int64{1, 7, 360, 720, 1000000, 123456789012, 450000000000000} {
		for _, rate := range []fraction.Fraction{frac(0, 1), frac(1, 1), frac(1, 2), frac(1, 999999937), frac(999999936, 999999937), frac(1, 4)} {
			r := agreement()
			r.Cash, r.Rate, r.Closing = cash, rate, 500
			last := int64(0)
			for day := 100; day <= 500; day += 9 {
				got, e := r.Interest(day)
				if got != interest(r, day) || e != api.OK || got < last {
					t.Error("Interest", cash, rate, day, got, e)
				}
				last = got
			}
			if got, e := r.Repayment(); got != cash+interest(r, 500) || e != api.OK {
				t.Error("Repayment", got, e)
			}
			if got, e := r.Interest(100); got != 0 || e != api.OK {
				t.Error("opening day", got, e)
			}
		}
	}
	r := agreement()
	for _, day := range []int{99, 137, math.MinInt} {
		if x, e := r.Interest(day); x != 0 || e != api.ErrDate {
			t.Error("Interest", day, x, e)
		}
	}
}

// P41.2 P41.7
func TestLegs(t *testing.T) {
	a, b, e := agreement().Legs()
	want := matching.Trade{Kind: message.DvP, Deliverer: "BANKA", Receiver: "BANKB", Asset: isin, Quantity: 50, Amount: 1000000, TradeDay: 100, SettleDay: 100, Refs: [2]string{"R1-A", "R1-A"}}
	if a != want || e != api.OK || a.Check() != api.OK {
		t.Error(a, e)
	}
	want.Deliverer, want.Receiver, want.Amount, want.SettleDay, want.Refs = "BANKB", "BANKA", 1005000, 136, [2]string{"R1-B", "R1-B"}
	if b != want || b.Check() != api.OK {
		t.Error(b)
	}
}

// P41.3
func TestRoll(t *testing.T) {
	r := agreement()
	next, e := r.Roll("R2", 172, frac(1, 10))
	want := r
	want.Ref, want.Cash, want.Rate, want.Opening, want.Closing = "R2", 1005000, frac(1, 10), 136, 172
	if next != want || e != api.OK {
		t.Error(next, e)
	}
	if x, e := r.Net(next); x != 0 || e != api.OK {
		t.Error("Net", x, e)
	}
	for n, x := range []struct {
		ref     string
		closing int
		rate    fraction.Fraction
		e       api.Errno
	}{{"R1", 0, frac(9, 1), api.ErrDuplicate}, {"", 172, frac(0, 1), api.ErrUnknown}, {"R2", 136, frac(0, 1), api.ErrDate}, {"R2", 172, frac(9, 1), api.ErrRange}} {
		if got, e := r.Roll(x.ref, x.closing, x.rate); got != (repo.Repo{}) || e != x.e {
			t.Error("Roll", n, e)
		}
	}
	for n, change := range []func(r *repo.Repo){func(r *repo.Repo) { r.Seller = "BANKC" }, func(r *repo.Repo) { r.Buyer = "BANKC" }, func(r *repo.Repo) { r.ISIN = "XS0000000009" }, func(r *repo.Repo) { r.Quantity++ }, func(r *repo.Repo) { r.Opening++ }} {
		other := next
		change(&other)
		if x, e := r.Net(other); x != 0 || e != api.ErrMismatch {
			t.Error("Net", n, x, e)
		}
	}
	next.Cash = 2000000
	if x, e := r.Net(next); x != -995000 || e != api.OK {
		t.Error("Net", x, e)
	}
	next.Cash = 0
	if x, e := r.Net(next); x != 0 || e != api.ErrRange {
		t.Error("Net", x, e)
	}
}

// P41.3
func TestExposure(t *testing.T) {
	r := agreement()
	for n, x := range []struct {
		day   int
		price int64
		want  int64
		e     api.Errno
	}{{100, 20000, 0, api.OK}, {136, 20000, 5000, api.OK}, {118, 30000, -497500, api.OK}, {99, 0, 0, api.ErrDate}, {137, 0, 0, api.ErrDate}, {100, 0, 0, api.ErrRange}, {100, repo.MaxPrice + 1, 0, api.ErrRange}, {100, repo.MaxPrice, 1000000 - 50*repo.MaxPrice, api.OK}} {
		if got, e := r.Exposure(x.day, x.price); got != x.want || e != x.e {
			t.Error("Exposure", n, got, e)
		}
	}
	r.Quantity = most / 7
	if got, e := r.Exposure(100, 7); got != 1000000-most/7*7 || e != api.OK {
		t.Error("Exposure", got, e)
	}
	if got, e := r.Exposure(100, 8); got != 0 || e != api.ErrOverflow {
		t.Error("Exposure", got, e)
	}
}

// P41.4 P41.5
func TestBook(t *testing.T) {
	b := repo.NewBook()
	add := func(ref, seller string, opening, closing int) {
		t.Helper()
		r := agreement()
		r.Ref, r.Seller, r.Opening, r.Closing = ref, seller, opening, closing
		if e := b.Add(r); e != api.OK {
			t.Error("Add", e)
		}
	}
	roll := func(old, ref string, closing int, rate fraction.Fraction, want api.Errno) {
		t.Helper()
		before := b.Clone()
		if e := b.Roll(old, ref, closing, rate); e != want || e != api.OK && !b.Equal(before) {
			t.Error("Roll", old, ref, e, "want", want)
		}
	}
	add("B", "BANKA", 100, 136)
	add("A", "BANKA", 110, 136)
	add("C", "BANKC", 100, 140)
	if e := b.Add(agreement()); e != api.OK || b.Add(agreement()) != api.ErrDuplicate {
		t.Error("Add", e)
	}
	roll("X", "", 0, frac(9, 1), api.ErrNotFound)
	roll("A", "A", 0, frac(9, 1), api.ErrDuplicate)
	roll("A", "D", 0, frac(0, 1), api.ErrDate)
	roll("A", "C", 172, frac(0, 1), api.ErrDuplicate)
	roll("A", "D", 172, frac(1, 10), api.OK)
	roll("A", "A", 0, frac(9, 1), api.ErrState)
	roll("D", "E", 180, frac(0, 1), api.OK)
	d, ok := b.Get("D")
	if !ok || d.Cash != 1000000+interest(repo.Repo{Cash: 1000000, Rate: frac(1, 20), Opening: 110}, 136) || d.Opening != 136 {
		t.Error("Get", d, ok)
	}
	if x, ok := b.Get("X"); ok || x != (repo.Repo{}) {
		t.Error("Get", x, ok)
	}
	for ref, want := range map[string][]string{"E": {"A", "D", "E"}, "D": {"A", "D"}, "A": {"A"}, "X": nil, "": nil} {
		if !slices.Equal(b.Chain(ref), want) {
			t.Error("Chain", ref, b.Chain(ref))
		}
	}
	for day, want := range map[int][]string{136: {"B", "R1"}, 140: {"C"}, 172: nil, 180: {"E"}, -1: nil} {
		if !slices.Equal(b.Due(day), want) {
			t.Error("Due", day, b.Due(day))
		}
	}
	for day, want := range map[int][]string{99: nil, 100: {"B", "C", "R1"}, 110: {"A", "B", "C", "R1"}, 135: {"A", "B", "C", "R1"}, 136: {"C", "D"}, 172: {"E"}, 180: nil} {
		if !slices.Equal(b.Open(day), want) {
			t.Error("Open", day, b.Open(day))
		}
	}
	if x, e := b.Borrowed("BANKA", 118); x != 2*1002500+1000000+interest(repo.Repo{Cash: 1000000, Rate: frac(1, 20), Opening: 110}, 118) || e != api.OK {
		t.Error("Borrowed", x, e)
	}
	if x, e := b.Borrowed("BANKB", 118); x != 0 || e != api.OK {
		t.Error("Borrowed", x, e)
	}
}

// P41.4 P41.5 P41.6
func TestBookLimits(t *testing.T) {
	b := repo.NewBook()
	r := agreement()
	r.Rate = frac(0, 1)
	for n := range repo.MaxAgreements {
		r.Ref = strconv.Itoa(n)
		if e := b.Add(r); e != api.OK {
			t.Fatal(e)
		}
	}
	r.Ref = "X"
	if e := b.Add(r); e != api.ErrLimit {
		t.Error("Add", e)
	}
	if e := b.Roll("5", "X", 172, frac(0, 1)); e != api.ErrLimit {
		t.Error("Roll", e)
	}
	c := repo.NewBook()
	for n := range 18448 % 4096 {
		r.Ref, r.Cash = strconv.Itoa(n), most
		c.Add(r)
	}
	if x, e := c.Borrowed("BANKA", 110); x != 0 || e != api.ErrOverflow {
		t.Error("Borrowed", x, e)
	}
	d := b.Clone()
	if !d.Equal(b) || d.Equal(c) {
		t.Error("Equal")
	}
	x, y := repo.NewBook(), repo.NewBook()
	x.Add(agreement())
	next, _ := agreement().Roll("R2", 172, frac(0, 1))
	y.Add(agreement())
	y.Roll("R1", "R2", 172, frac(0, 1))
	z := x.Clone()
	z.Add(next)
	if z.Equal(y) || len(x.Open(150)) != 0 {
		t.Error("a rollover is not seen")
	}
	var none *repo.Book
	sum, e := none.Borrowed("", 0)
	_, ok := none.Get("")
	if none.Add(repo.Repo{}) != api.ErrArgument || none.Roll("", "", 0, fraction.Fraction{}) != api.ErrArgument || sum != 0 || e != api.ErrArgument || ok || len(none.Chain("")) != 0 || len(none.Due(0)) != 0 || len(none.Open(0)) != 0 || none.Clone() != nil || !none.Equal(nil) || none.Equal(x) || x.Equal(nil) {
		t.Error("nil book")
	}
}

// Example 1
func TestExample(t *testing.T) {
	r := agreement()
	x, _ := r.Interest(136)
	y, _ := r.Repayment()
	next, _ := r.Roll("R2", 172, frac(1, 10))
	z, _ := next.Interest(172)
	if x != 5000 || y != 1005000 || next.Cash != 1005000 || z != 10050 {
		t.Error(x, y, next, z)
	}
}

// P41.1 P41.3 P41.5: the least and the greatest values that are possible.
func TestBounds(t *testing.T) {
	for n, change := range []func(r *repo.Repo){
		func(r *repo.Repo) { r.Quantity = 1 },
		func(r *repo.Repo) { r.Quantity = most },
		func(r *repo.Repo) { r.Cash = 1 },
		func(r *repo.Repo) { r.Closing = r.Opening + 1 },
		func(r *repo.Repo) { r.Opening, r.Closing = 0, 1 },
		func(r *repo.Repo) { r.Opening, r.Closing = 73047, 73048 },
	} {
		r := agreement()
		change(&r)
		if e := r.Check(); e != api.OK {
			t.Error("change", n, e)
		}
	}
	r := agreement()
	if x, e := r.Exposure(r.Opening, 1); x != 1000000-50 || e != api.OK {
		t.Error("Exposure", x, e)
	}
	r.Cash, r.Rate = most, frac(0, 1)
	b := repo.NewBook()
	if e := b.Add(r); e != api.OK {
		t.Error("Add", e)
	}
	if x, e := b.Borrowed("BANKA", r.Opening); x != most || e != api.OK {
		t.Error("Borrowed", x, e)
	}
	r.Ref, r.Cash = "R2", 1
	b.Add(r)
	if x, e := b.Borrowed("BANKA", r.Opening); x != 0 || e != api.ErrOverflow {
		t.Error("Borrowed", x, e)
	}
}
