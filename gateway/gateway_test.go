package gateway_test

import (
	"errors"
	"slices"
	"strconv"
	"strings"
	"sync"
	"testing"

	"giro/api"
	"giro/gateway"
)

type (
	message = gateway.Message
	stream  = gateway.Stream
)

func of(member string, ticks ...int) stream {
	s := stream{Member: member}
	for n, tick := range ticks {
		s.Messages = append(s.Messages, message{tick, member, n + 1, member + strconv.Itoa(n)})
	}
	return s
}

// P50.1
func TestCompare(t *testing.T) {
	l := []message{{-1, "Z", 9, ""}, {0, "A", 5, "x"}, {0, "AA", 1, ""}, {0, "B", 1, ""}, {0, "B", 2, ""}, {1, "", 0, ""}}
	for i, a := range l {
		for j, b := range l {
			want := 0
			if i < j {
				want = -1
			} else if i > j {
				want = 1
			}
			b.Payload = "other"
			if gateway.Compare(a, b) != want {
				t.Error("Compare", a, b)
			}
		}
	}
}

// P50.1
func TestCheck(t *testing.T) {
	with := func(change func(s *stream)) stream { s := of("BANKA", 0, 3, 3); change(&s); return s }
	long := strings.Repeat("x", gateway.MaxPayload)
	for n, x := range []struct {
		s stream
		e api.Errno
	}{
		{of("BANKA"), api.OK}, {of("BANKA", 0, 0, gateway.MaxNumber), api.OK}, {stream{"CB", make([]message, gateway.MaxMessages+1)}, api.ErrUnknown}, {stream{"BANKA", make([]message, gateway.MaxMessages+1)}, api.ErrLimit}, {stream{"BANKA", make([]message, gateway.MaxMessages)}, api.ErrMismatch},
		{with(func(s *stream) { s.Messages[1].Member, s.Messages[1].Tick = "BANKB", -1 }), api.ErrMismatch}, {with(func(s *stream) { s.Messages[1].Tick, s.Messages[1].Seq = -1, 9 }), api.ErrRange}, {with(func(s *stream) { s.Messages[2].Tick = gateway.MaxNumber + 1 }), api.ErrRange}, {with(func(s *stream) { s.Messages[2].Tick, s.Messages[2].Seq = 2, 9 }), api.ErrStale},
		{with(func(s *stream) { s.Messages[1].Seq, s.Messages[1].Payload = 1, long+"x" }), api.ErrSequence}, {with(func(s *stream) { s.Messages[0].Seq = 0 }), api.ErrSequence}, {with(func(s *stream) { s.Messages[1].Payload = long + "x" }), api.ErrLong}, {with(func(s *stream) { s.Messages[1].Payload = long }), api.OK},
	} {
		if e := x.s.Check(); e != x.e {
			t.Error("Check", n, e, "want", x.e)
		}
		l, e := gateway.Merge([]stream{x.s})
		if e != x.e || e != api.OK && len(l) != 0 {
			t.Error("Merge", n, e)
		}
	}
}

// P50.2
func TestMerge(t *testing.T) {
	for seed := range uint64(30) {
		x := seed
		next := func(n int) int { x = x*6364136223846793005 + 1442695040888963407; return int(x>>33) % n }
		var streams []stream
		var want []message
		for n := range next(9) {
			var ticks []int
			for range next(40) {
				ticks = append(ticks, next(15))
			}
			slices.Sort(ticks)
			s := of("BANK"+strconv.Itoa(9-n), ticks...)
			streams = append(streams, s)
			want = append(want, s.Messages...)
		}
		slices.SortFunc(want, gateway.Compare)
		got, e := gateway.Merge(streams)
		slices.Reverse(streams)
		again, _ := gateway.Merge(streams)
		if !slices.Equal(got, want) || e != api.OK || !slices.Equal(again, want) {
			t.Fatal("Merge", seed, e)
		}
		for _, s := range streams {
			own := slices.DeleteFunc(slices.Clone(got), func(m message) bool { return m.Member != s.Member })
			if !slices.Equal(own, s.Messages) {
				t.Error("order of", s.Member)
			}
		}
	}
	half := of("BANKA", make([]int, gateway.MaxMessages/2)...)
	other := of("BANKB", make([]int, gateway.MaxMessages/2)...)
	if l, e := gateway.Merge([]stream{half, other}); len(l) != gateway.MaxMessages || e != api.OK {
		t.Error("most", len(l), e)
	}
	for n, x := range []struct {
		l []stream
		e api.Errno
	}{{make([]stream, gateway.MaxMembers+1), api.ErrLimit}, {make([]stream, gateway.MaxMembers), api.ErrUnknown}, {[]stream{half, other, of("BANKC", 0)}, api.ErrLimit}, {[]stream{half, half, other}, api.ErrDuplicate}, {[]stream{half, of("BANKC", 5, 4), half}, api.ErrStale}, {nil, api.OK}} {
		if l, e := gateway.Merge(x.l); len(l) != 0 || e != x.e {
			t.Error("error", n, len(l), e)
		}
	}
}

// P50.3
func TestEach(t *testing.T) {
	streams := []stream{of("BANKB", 0, 2), of("BANKA", 2)}
	var seen []string
	if err := gateway.Each(streams, func(m message) error { seen = append(seen, m.Payload); return nil }); err != nil || !slices.Equal(seen, []string{"BANKB0", "BANKA0", "BANKB1"}) {
		t.Error(err, seen)
	}
	reason := errors.New("reason")
	seen = nil
	err := gateway.Each(streams, func(m message) error {
		seen = append(seen, m.Payload)
		if m.Member == "BANKA" {
			return reason
		}
		return nil
	})
	var rejected *gateway.Rejected
	if !errors.As(err, &rejected) || rejected.Message != streams[1].Messages[0] || !errors.Is(err, reason) || len(seen) != 2 || err.Error() == "" {
		t.Error(err, seen)
	}
	var invalid *gateway.Invalid
	if err := gateway.Each(nil, nil); !errors.As(err, &invalid) || invalid.Code != api.ErrArgument || err.Error() == "" {
		t.Error(err)
	}
	called := false
	if err := gateway.Each([]stream{of("BANKA", 5, 4)}, func(message) error { called = true; return nil }); !errors.As(err, &invalid) || invalid.Code != api.ErrStale || called {
		t.Error(err)
	}
	var ni *gateway.Invalid
	var nr *gateway.Rejected
	if ni.Error() == "" || nr.Error() == "" || nr.Unwrap() != nil {
		t.Error("nil errors")
	}
}

// P50.4
func TestNew(t *testing.T) {
	many := make([]string, gateway.MaxMembers+1)
	for n := range many {
		many[n] = "M" + strconv.Itoa(1000+n)
	}
	for n, x := range []struct {
		l []string
		e api.Errno
	}{{nil, api.ErrArgument}, {many, api.ErrLimit}, {many[1:], api.OK}, {[]string{"BANKA", "CB", "BANKA"}, api.ErrUnknown}, {[]string{"BANKA", "BANKA", "CB"}, api.ErrDuplicate}} {
		g, e := gateway.New(x.l)
		if e != x.e || (g != nil) != (e == api.OK) {
			t.Error("New", n, e)
		}
	}
}

func serve(t *testing.T, members ...string) *gateway.Gateway {
	t.Helper()
	g, e := gateway.New(members)
	if e != api.OK {
		t.Fatal(e)
	}
	return g
}

// P50.5 P50.6
func TestGateway(t *testing.T) {
	g := serve(t, "BANKB", "BANKA")
	long := strings.Repeat("x", gateway.MaxPayload)
	send := func(tick int, member string, seq int, payload string, want api.Errno) {
		t.Helper()
		waiting := g.Waiting()
		if e := g.Send(message{tick, member, seq, payload}); e != want || e != api.OK && g.Waiting() != waiting {
			t.Error("Send", tick, member, seq, e, "want", want)
		}
	}
	send(9, "BANKC", 9, long+"x", api.ErrNotFound)
	send(-1, "BANKA", 9, long+"x", api.ErrStale)
	send(1, "BANKA", 9, long+"x", api.ErrRange)
	send(0, "BANKA", 2, long+"x", api.ErrSequence)
	send(0, "BANKA", 1, long+"x", api.ErrLong)
	send(0, "BANKB", 1, long, api.OK)
	send(0, "BANKB", 1, "", api.ErrSequence)
	send(0, "BANKA", 1, "a", api.OK)
	send(0, "BANKB", 2, "", api.OK)
	if n, e := g.Next("BANKB"); n != 3 || e != api.OK || g.Waiting() != 3 || g.Tick() != 0 {
		t.Error("Next", n, e)
	}
	if n, e := g.Next("BANKC"); n != 0 || e != api.ErrNotFound {
		t.Error("Next", n, e)
	}
	l, e := g.Close()
	if !slices.Equal(l, []message{{0, "BANKA", 1, "a"}, {0, "BANKB", 1, long}, {0, "BANKB", 2, ""}}) || e != api.OK || g.Waiting() != 0 || g.Tick() != 1 {
		t.Error("Close", e)
	}
	send(0, "BANKA", 2, "", api.ErrStale)
	send(1, "BANKA", 2, "", api.OK)
	for n := 3; n <= gateway.MaxMessages+1; n++ {
		g.Send(message{1, "BANKA", n, ""})
	}
	send(1, "BANKA", gateway.MaxMessages+2, "", api.ErrLimit)
	if l, e := g.Close(); len(l) != gateway.MaxMessages || e != api.OK {
		t.Error("Close", len(l), e)
	}
	if l, e := g.Close(); len(l) != 0 || e != api.OK || g.Tick() != 3 {
		t.Error("empty tick", e)
	}
	var none *gateway.Gateway
	x, e1 := none.Close()
	n, e2 := none.Next("BANKA")
	if none.Send(message{}) != api.ErrArgument || len(x) != 0 || e1 != api.ErrArgument || n != 0 || e2 != api.ErrArgument || none.Tick() != 0 || none.Waiting() != 0 {
		t.Error("nil gateway")
	}
}

// P50.7: concurrent senders, tick by tick.
func TestConcurrent(t *testing.T) {
	var members []string
	var streams []stream
	for n := range 12 {
		m := "BANK" + strconv.Itoa(10+n)
		members = append(members, m)
		var ticks []int
		for k := range 50 {
			ticks = append(ticks, k*(n+1)/60)
		}
		streams = append(streams, of(m, ticks...))
	}
	want, _ := gateway.Merge(streams)
	g := serve(t, members...)
	var got []message
	for tick := range 11 {
		var senders sync.WaitGroup
		for _, s := range streams {
			senders.Go(func() {
				for _, m := range s.Messages {
					if m.Tick == tick && g.Send(m) != api.OK {
						t.Error("Send", m)
					}
					g.Waiting()
				}
			})
		}
		senders.Wait()
		l, _ := g.Close()
		got = append(got, l...)
	}
	if !slices.Equal(got, want) {
		t.Error("the order depends on the scheduling")
	}
}

// Example 1
func TestExample(t *testing.T) {
	l, _ := gateway.Merge([]stream{of("BANKB", 0, 2), of("BANKA", 2)})
	var names []string
	for _, m := range l {
		names = append(names, m.Member+" "+strconv.Itoa(m.Seq))
	}
	if !slices.Equal(names, []string{"BANKB 1", "BANKA 1", "BANKB 2"}) {
		t.Error(names)
	}
}
