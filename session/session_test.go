package session_test

import (
	"slices"
	"strconv"
	"strings"
	"testing"

	"giro/api"
	"giro/session"
)

type (
	message = session.Message
	rng     = session.Range
)

func receiver(t *testing.T, window int) *session.Receiver {
	t.Helper()
	r, e := session.NewReceiver(window)
	if e != api.OK || r.Next() != 1 || r.Buffered() != 0 || len(r.Missing()) != 0 {
		t.Fatal("NewReceiver", e)
	}
	return r
}

func sender(t *testing.T, window int) *session.Sender {
	t.Helper()
	s, e := session.NewSender(window)
	if e != api.OK || s.Next() != 1 || len(s.Pending()) != 0 {
		t.Fatal("NewSender", e)
	}
	return s
}

// P49.1
func TestWindows(t *testing.T) {
	for _, n := range []int{-1, 0, session.MaxWindow + 1} {
		r, e1 := session.NewReceiver(n)
		s, e2 := session.NewSender(n)
		if r != nil || s != nil || e1 != api.ErrRange || e2 != api.ErrRange {
			t.Error("window", n, e1, e2)
		}
	}
	receiver(t, session.MaxWindow)
	sender(t, 1)
}

// P49.2 P49.3
func TestReceiver(t *testing.T) {
	r := receiver(t, 4)
	long := strings.Repeat("x", session.MaxPayload)
	accept := func(seq int, payload string, want api.Errno, delivered ...string) {
		t.Helper()
		before := r.Clone()
		l, e := r.Accept(message{seq, payload})
		if !slices.Equal(l, delivered) || e != want || e != api.OK && !r.Equal(before) {
			t.Error("Accept", seq, l, e, "want", want)
		}
	}
	accept(0, long+"x", api.ErrRange)
	accept(1000000001, long+"x", api.ErrRange)
	accept(1, long+"x", api.ErrLong)
	accept(5, "", api.ErrLimit)
	accept(4, "d", api.OK)
	accept(4, "d", api.ErrDuplicate)
	accept(2, long, api.OK)
	if r.Next() != 1 || r.Buffered() != 2 || !slices.Equal(r.Missing(), []rng{{1, 1}, {3, 3}}) {
		t.Error("gaps", r.Missing())
	}
	accept(1, "a", api.OK, "a", long)
	accept(1, "a", api.ErrDuplicate)
	accept(6, "f", api.OK)
	accept(7, "g", api.ErrLimit)
	if !slices.Equal(r.Missing(), []rng{{3, 3}, {5, 5}}) || r.Next() != 3 {
		t.Error("gaps", r.Missing())
	}
	accept(3, "", api.OK, "", "d")
	accept(5, "e", api.OK, "e", "f")
	if r.Next() != 7 || r.Buffered() != 0 || len(r.Missing()) != 0 {
		t.Error("in the end", r.Next())
	}
	w := receiver(t, 1)
	if _, e := w.Accept(message{2, ""}); e != api.ErrLimit {
		t.Error("window 1", e)
	}
}

// P49.4 P49.5
func TestSender(t *testing.T) {
	s := sender(t, 3)
	send := func(payload string, want message, e api.Errno) {
		t.Helper()
		if m, got := s.Send(payload); m != want || got != e {
			t.Error("Send", m, got)
		}
	}
	send(strings.Repeat("x", session.MaxPayload+1), message{}, api.ErrLong)
	send("a", message{1, "a"}, api.OK)
	send("b", message{2, "b"}, api.OK)
	send("", message{3, ""}, api.OK)
	send("d", message{}, api.ErrLimit)
	for _, x := range []struct {
		next int
		e    api.Errno
	}{{0, api.ErrRange}, {5, api.ErrRange}, {2, api.OK}, {2, api.OK}, {1, api.ErrStale}} {
		before := s.Clone()
		if e := s.Acknowledge(x.next); e != x.e || e != api.OK && !s.Equal(before) {
			t.Error("Acknowledge", x, e)
		}
	}
	send("d", message{4, "d"}, api.OK)
	if !slices.Equal(s.Pending(), []message{{2, "b"}, {3, ""}, {4, "d"}}) || s.Next() != 5 {
		t.Error("Pending", s.Pending())
	}
	for _, x := range []struct {
		r    rng
		want []message
		e    api.Errno
	}{{rng{0, 9}, nil, api.ErrRange}, {rng{3, 2}, nil, api.ErrRange}, {rng{1, 5}, nil, api.ErrRange}, {rng{1, 4}, nil, api.ErrStale}, {rng{2, 3}, []message{{2, "b"}, {3, ""}}, api.OK}, {rng{4, 4}, []message{{4, "d"}}, api.OK}} {
		if l, e := s.Resend(x.r); !slices.Equal(l, x.want) || e != x.e {
			t.Error("Resend", x, l, e)
		}
	}
	l, _ := s.Resend(rng{2, 4})
	l[0].Payload = "?"
	s.Pending()[0].Payload = "?"
	if s.Pending()[0].Payload != "b" {
		t.Error("memory is shared")
	}
	if s.Acknowledge(5) != api.OK || len(s.Pending()) != 0 {
		t.Error("everything", s.Pending())
	}
}

// P49.6
func TestCloneEqualNil(t *testing.T) {
	r, s := receiver(t, 4), sender(t, 4)
	r.Accept(message{2, "b"})
	s.Send("a")
	s.Send("b")
	for n, change := range []func(r *session.Receiver){func(r *session.Receiver) { r.Accept(message{1, "a"}) }, func(r *session.Receiver) { r.Accept(message{3, "c"}) }} {
		c := r.Clone()
		if !c.Equal(r) {
			t.Error("clone")
		}
		change(c)
		if c.Equal(r) || r.Buffered() != 1 {
			t.Error("receiver", n)
		}
	}
	for n, change := range []func(s *session.Sender){func(s *session.Sender) { s.Send("c") }, func(s *session.Sender) { s.Acknowledge(2) }} {
		c := s.Clone()
		if !c.Equal(s) {
			t.Error("clone")
		}
		change(c)
		if c.Equal(s) || len(s.Pending()) != 2 {
			t.Error("sender", n)
		}
	}
	a, b := s.Clone(), s.Clone()
	a.Acknowledge(2)
	a.Send("x")
	b.Acknowledge(2)
	b.Send("y")
	if a.Equal(b) || len(s.Pending()) != 2 || s.Equal(sender(t, 4)) || sender(t, 3).Equal(sender(t, 4)) || receiver(t, 3).Equal(receiver(t, 4)) {
		t.Error("Equal")
	}
	x, y := sender(t, 4), sender(t, 4)
	x.Acknowledge(1)
	if !x.Equal(y) {
		t.Error("the first acknowledgement is 1")
	}
	var nr *session.Receiver
	var ns *session.Sender
	l, e1 := nr.Accept(message{})
	m, e2 := ns.Send("")
	q, e3 := ns.Resend(rng{})
	if len(l) != 0 || e1 != api.ErrArgument || m != (message{}) || e2 != api.ErrArgument || len(q) != 0 || e3 != api.ErrArgument || ns.Acknowledge(0) != api.ErrArgument || nr.Next() != 0 || len(nr.Missing()) != 0 || nr.Buffered() != 0 || nr.Clone() != nil || !nr.Equal(nil) || nr.Equal(r) || len(ns.Pending()) != 0 || ns.Next() != 0 || ns.Clone() != nil || !ns.Equal(nil) || ns.Equal(s) {
		t.Error("nil")
	}
}

// P49.7: messages that are lost, repeated and reordered.
func TestLossyConnection(t *testing.T) {
	for seed := range uint64(40) {
		x := seed
		next := func(n int) int { x = x*6364136223846793005 + 1442695040888963407; return int(x>>33) % n }
		s, r := sender(t, 1+int(seed%7)), receiver(t, 7)
		var sent, delivered []string
		var wire []message
		for n := 0; len(delivered) < 60 && n < 5000; n++ {
			switch next(4) {
			case 0:
				if m, e := s.Send(strconv.Itoa(len(sent))); e == api.OK {
					sent = append(sent, m.Payload)
					wire = append(wire, m)
				}
			case 1:
				if len(wire) > 0 {
					k := next(len(wire))
					l, e := r.Accept(wire[k])
					if e == api.ErrLimit {
						t.Fatal("rejected with ErrLimit")
					}
					delivered = append(delivered, l...)
					if next(2) == 0 {
						wire = slices.Delete(wire, k, k+1)
					}
				}
			case 2:
				s.Acknowledge(r.Next())
			default:
				if len(wire) > 3 {
					wire = wire[1:]
				}
				for _, g := range r.Missing() {
					l, _ := s.Resend(g)
					wire = append(wire, l...)
				}
				wire = append(wire, s.Pending()...)
			}
			if !slices.Equal(delivered, sent[:len(delivered)]) {
				t.Fatal("delivered", delivered)
			}
		}
		if len(delivered) < 60 {
			t.Error("seed", seed, "only", len(delivered))
		}
	}
}

// Example 1
func TestExample(t *testing.T) {
	r := receiver(t, 4)
	a, _ := r.Accept(message{3, "3"})
	missing := r.Missing()
	b, _ := r.Accept(message{1, "1"})
	c, _ := r.Accept(message{2, "2"})
	_, e1 := r.Accept(message{3, "3"})
	_, e2 := r.Accept(message{8, "8"})
	if len(a) != 0 || !slices.Equal(missing, []rng{{1, 2}}) || !slices.Equal(b, []string{"1"}) || !slices.Equal(c, []string{"2", "3"}) || r.Next() != 4 || e1 != api.ErrDuplicate || e2 != api.ErrLimit {
		t.Error(a, b, c, e1, e2)
	}
}

// P49.2 P49.4: the longest payload, and the greatest sequence number.
func TestBounds(t *testing.T) {
	long := strings.Repeat("x", session.MaxPayload)
	s := sender(t, 1)
	if m, e := s.Send(long); m.Payload != long || e != api.OK {
		t.Error("longest", e)
	}
	r := receiver(t, session.MaxWindow)
	for seq, want := range map[int]api.Errno{1000000000: api.ErrLimit, 1000000001: api.ErrRange, session.MaxWindow: api.OK, session.MaxWindow + 1: api.ErrLimit} {
		if _, e := r.Accept(message{Seq: seq}); e != want {
			t.Error("sequence number", seq, e, "want", want)
		}
	}
	c := s.Clone()
	c.Acknowledge(2)
	c.Send("y")
	if l := s.Pending(); len(l) != 1 || l[0].Payload != long {
		t.Error("the copy is not independent")
	}
}
