package wal_test

import (
	"bytes"
	"encoding/binary"
	"slices"
	"strings"
	"testing"

	"giro/api"
	"giro/disk"
	"giro/record"
	"giro/wal"
)

func must(t *testing.T, d *disk.Disk, segment int) (*wal.Log, []wal.Entry) {
	t.Helper()
	l, entries, e := wal.Open(d, "log", segment)
	if e != api.OK || l == nil {
		t.Fatal("Open", e)
	}
	return l, entries
}

func payload(n int) []byte { return bytes.Repeat([]byte{byte(n)}, 20) }

// fill appends entries with the numbers from..to-1.
func fill(t *testing.T, l *wal.Log, from, to int) {
	t.Helper()
	for n := from; n < to; n++ {
		if seq, e := l.Append(payload(n)); seq != n || e != api.OK {
			t.Fatal("Append", n, seq, e)
		}
	}
}

// expect checks that entries have the numbers from..to-1 and their payloads.
func expect(t *testing.T, entries []wal.Entry, from, to int) {
	t.Helper()
	if len(entries) != to-from {
		t.Errorf("%d entries, want %d to %d", len(entries), from, to)
		return
	}
	for i, x := range entries {
		if x.Seq != from+i || !bytes.Equal(x.Payload, payload(from+i)) {
			t.Error("entry", from+i, x)
		}
	}
}

func state(t *testing.T, l *wal.Log, first, next, synced int, segments ...string) {
	t.Helper()
	if l.First() != first || l.Next() != next || l.Synced() != synced || !slices.Equal(l.Segments(), segments) {
		t.Errorf("state %d %d %d %v, want %d %d %d %v", l.First(), l.Next(), l.Synced(), l.Segments(), first, next, synced, segments)
	}
}

// rec returns the record of an entry by the chapter's words.
func rec(seq int, p []byte) []byte {
	b, _ := record.Encode(append(binary.BigEndian.AppendUint64(nil, uint64(seq)), p...))
	return b
}

// P11.1 P11.2 P11.6
func TestSegments(t *testing.T) {
	d := disk.New()
	d.Create("other")
	l, entries := must(t, d, 64)
	expect(t, entries, 0, 0)
	state(t, l, 0, 0, 0, "log-0000000000")
	fill(t, l, 0, 5)
	names := []string{"log-0000000000", "log-0000000002", "log-0000000004"}
	state(t, l, 0, 5, 4, names...)
	if !slices.Equal(d.List(), append(names, "other")) {
		t.Error(d.List())
	}
	b, _ := d.Read(names[1])
	if !bytes.Equal(b, append(rec(2, payload(2)), rec(3, payload(3))...)) {
		t.Error("file", b)
	}
	if d.Pending(names[1]) != 0 || d.Pending(names[2]) != 1 {
		t.Error("pending writes")
	}
	if e := l.Sync(); e != api.OK || d.Pending(names[2]) != 0 {
		t.Error("Sync", e)
	}
	state(t, l, 0, 5, 5, names...)
	again, entries := must(t, d, 1<<20)
	expect(t, entries, 0, 5)
	state(t, again, 0, 5, 5, names...)
	fill(t, again, 5, 30)
	state(t, again, 0, 30, 5, names...)
}

// P11.2: a segment is full from its size on, and only with an entry.
func TestFull(t *testing.T) {
	for _, x := range []struct{ segment, segments int }{{71, 3}, {72, 3}, {73, 2}} {
		l, _ := must(t, disk.New(), x.segment)
		fill(t, l, 0, 5)
		if len(l.Segments()) != x.segments {
			t.Error("segment size", x.segment, l.Segments())
		}
	}
	l, _ := must(t, disk.New(), 64)
	for _, p := range [][]byte{make([]byte, wal.MaxPayload), nil} {
		if _, e := l.Append(p); e != api.OK {
			t.Error("Append", len(p), e)
		}
	}
	if n, e := l.Append(make([]byte, wal.MaxPayload+1)); n != 0 || e != api.ErrLong || l.Next() != 2 {
		t.Error("too long", n, e)
	}
	entries, e := l.Entries(0)
	if e != api.OK || len(entries) != 2 || len(entries[0].Payload) != wal.MaxPayload || len(entries[1].Payload) != 0 {
		t.Error("Entries", e)
	}
}

// P11.1
func TestOpenErrors(t *testing.T) {
	down := disk.New()
	down.Crash()
	d := disk.New()
	long := strings.Repeat("a", wal.MaxPrefix)
	for _, x := range []struct {
		d       *disk.Disk
		prefix  string
		segment int
		e       api.Errno
	}{
		{nil, "", 0, api.ErrArgument}, {down, "", 0, api.ErrUnknown}, {d, long + "a", 64, api.ErrUnknown}, {d, "A", 64, api.ErrUnknown},
		{d, "a-b", 64, api.ErrUnknown}, {d, "a.b", 64, api.ErrUnknown}, {d, "é", 64, api.ErrUnknown}, {down, "a", 63, api.ErrRange}, {down, "a", 1<<20 + 1, api.ErrRange},
		{down, "a", 64, api.ErrCrash}, {d, long, 64, api.OK}, {d, "0", 1 << 20, api.OK},
	} {
		l, entries, e := wal.Open(x.d, x.prefix, x.segment)
		if e != x.e || (l != nil) != (e == api.OK) || len(entries) != 0 {
			t.Error("Open", x.prefix, x.segment, e, "want", x.e)
		}
	}
	full := disk.New()
	full.SetBudget(0)
	if l, _, e := wal.Open(full, "a", 64); l != nil || e != api.ErrCrash {
		t.Error("Open", e)
	}
}

// files returns a disk with files of given contents, which are durable.
func files(l map[string][]byte) *disk.Disk {
	d := disk.New()
	for name, b := range l {
		d.Create(name)
		d.Append(name, b)
		d.Sync(name)
	}
	return d
}

func recs(from, to int) []byte {
	var b []byte
	for n := from; n < to; n++ {
		b = append(b, rec(n, payload(n))...)
	}
	return b
}

// P11.1
func TestRecovery(t *testing.T) {
	damaged := recs(2, 4)
	damaged[40] ^= 1
	long := rec(3, make([]byte, wal.MaxPayload+1))
	short, _ := record.Encode([]byte{0, 0, 0, 0, 0, 0, 3})
	a, b, c := "log-0000000000", "log-0000000002", "log-0000000004"
	for name, x := range map[string]struct {
		files map[string][]byte
		next  int
		sizes map[string]int
	}{
		"whole":        {map[string][]byte{a: recs(0, 2), b: recs(2, 4), c: recs(4, 5)}, 5, map[string]int{a: 72, b: 72, c: 36}},
		"damaged":      {map[string][]byte{a: recs(0, 2), b: damaged, c: recs(4, 5)}, 3, map[string]int{a: 72, b: 36}},
		"cut":          {map[string][]byte{a: recs(0, 2), b: recs(2, 4)[:71], c: recs(4, 5)}, 3, map[string]int{a: 72, b: 36}},
		"gap":          {map[string][]byte{a: recs(0, 1), b: recs(2, 4), c: recs(4, 5)}, 1, map[string]int{a: 36}},
		"too many":     {map[string][]byte{a: recs(0, 3), b: recs(2, 4)}, 3, map[string]int{a: 108}},
		"wrong number": {map[string][]byte{a: recs(0, 2), b: recs(3, 5)}, 2, map[string]int{a: 72, b: 0}},
		"repeated":     {map[string][]byte{a: append(recs(0, 2), recs(1, 2)...), b: recs(2, 4)}, 2, map[string]int{a: 72}},
		"too long":     {map[string][]byte{a: recs(0, 2), b: append(recs(2, 3), long...)}, 3, map[string]int{a: 72, b: 36}},
		"too short":    {map[string][]byte{a: recs(0, 2), b: append(recs(2, 3), short...)}, 3, map[string]int{a: 72, b: 36}},
		"empty":        {map[string][]byte{a: recs(0, 2), b: nil, c: recs(4, 5)}, 2, map[string]int{a: 72, b: 0}},
		"other files":  {map[string][]byte{a: recs(0, 2), "log-00000000002": nil, "log-000000000x": nil, "log": nil, "log2-0000000000": nil}, 2, map[string]int{a: 72, "log-00000000002": 0, "log-000000000x": 0, "log": 0, "log2-0000000000": 0}},
	} {
		d := files(x.files)
		l, entries := must(t, d, 64)
		expect(t, entries, 0, x.next)
		if l.Next() != x.next || l.Synced() != x.next || l.First() != 0 {
			t.Error(name, l.Next(), l.Synced())
		}
		if len(d.List()) != len(x.sizes) {
			t.Error(name, d.List())
		}
		for f, want := range x.sizes {
			if size, e := d.Size(f); size != want || e != api.OK {
				t.Error(name, f, size, e)
			}
		}
		fill(t, l, x.next, x.next+3)
		_, entries = must(t, d, 64)
		expect(t, entries, 0, x.next+3)
	}
}

// P11.1
func TestRecoveryFromLaterSegment(t *testing.T) {
	d := files(map[string][]byte{"log-0000000007": recs(7, 9), "log-0000000009": recs(9, 10)})
	l, entries := must(t, d, 64)
	expect(t, entries, 7, 10)
	state(t, l, 7, 10, 10, "log-0000000007", "log-0000000009")
	d = files(map[string][]byte{"log-0000000007": recs(0, 2)})
	l, entries = must(t, d, 64)
	expect(t, entries, 0, 0)
	state(t, l, 7, 7, 7, "log-0000000007")
}

// P11.1: the order of the operations, seen by stopping after each.
func TestRecoveryOrder(t *testing.T) {
	a, b, c, e := "log-0000000000", "log-0000000002", "log-0000000004", "log-0000000006"
	make := func() *disk.Disk {
		d := files(map[string][]byte{a: recs(0, 1), b: recs(2, 3)[:30], c: recs(4, 5), e: nil})
		d.Append(a, recs(1, 2))
		return d
	}
	for budget, want := range [][]int{{72, 30, 36, 0}, {72, 30, 36, -1}, {72, 30, -1, -1}, {72, 0, -1, -1}} {
		d := make()
		d.SetBudget(budget)
		_, _, err := wal.Open(d, "log", 64)
		if err != api.ErrCrash {
			t.Fatal("budget", budget, err)
		}
		d.Restart([]uint8{0, 1})
		for i, name := range []string{a, b, c, e} {
			size, err := d.Size(name)
			if err != api.OK {
				size = -1
			}
			if size != want[i] {
				t.Error("budget", budget, name, size)
			}
		}
	}
	d := make()
	d.SetBudget(4)
	if _, _, err := wal.Open(d, "log", 64); err != api.OK || d.Budget() != 0 || d.Pending(a) != 0 {
		t.Error("Open uses other operations", err, d.Budget())
	}
}

// P11.3 P11.2
func TestFailures(t *testing.T) {
	d := disk.New()
	l, _ := must(t, d, 64)
	fill(t, l, 0, 2)
	// The third entry needs a sync, a new segment and a write.
	d.SetBudget(1)
	if n, e := l.Append(payload(2)); n != 0 || e != api.ErrCrash || l.Next() != 2 || l.Synced() != 2 {
		t.Error("Append", n, e, l.Next(), l.Synced())
	}
	for _, f := range []func() api.Errno{
		l.Sync,
		func() api.Errno { _, e := l.Append(nil); return e },
		func() api.Errno { _, e := l.Entries(0); return e },
		func() api.Errno { return l.Truncate(0) },
	} {
		if e := f(); e != api.ErrCrash {
			t.Error("on a disk that is down:", e)
		}
	}
	if _, e := l.Append(make([]byte, wal.MaxPayload+1)); e != api.ErrLong {
		t.Error("errors of arguments come first:", e)
	}
	if _, e := l.Entries(3); e != api.ErrRange {
		t.Error("errors of arguments come first:", e)
	}
	if e := l.Truncate(3); e != api.ErrRange {
		t.Error("errors of arguments come first:", e)
	}
	// A full disk refuses a new segment; the next entry goes on.
	d = disk.New()
	l, _ = must(t, d, 64)
	fill(t, l, 0, 2)
	for i := len(d.List()); i < disk.MaxFiles; i++ {
		d.Create("f" + strings.Repeat("x", i%50) + string(rune('a'+i/50)))
	}
	if n, e := l.Append(payload(2)); n != 0 || e != api.ErrLimit || l.Next() != 2 {
		t.Error("Append on a full disk", n, e)
	}
	d.Remove("fa")
	if len(d.List()) == disk.MaxFiles {
		d.Remove(d.List()[0])
	}
	fill(t, l, 2, 3)
}

// P11.3
func TestSync(t *testing.T) {
	d := disk.New()
	l, _ := must(t, d, 64)
	d.SetBudget(0)
	if e := l.Sync(); e != api.OK {
		t.Error("Sync without pending writes", e)
	}
	d.SetBudget(-1)
	fill(t, l, 0, 1)
	if l.Synced() != 0 {
		t.Error("Synced", l.Synced())
	}
	if e := l.Sync(); e != api.OK || l.Synced() != 1 || d.Pending("log-0000000000") != 0 {
		t.Error("Sync", e, l.Synced())
	}
}

// P11.4
func TestTruncate(t *testing.T) {
	for before, segments := range map[int]int{0: 3, 1: 3, 2: 2, 3: 2, 4: 1, 5: 1} {
		d := disk.New()
		l, _ := must(t, d, 64)
		fill(t, l, 0, 5)
		if e := l.Truncate(before); e != api.OK || len(l.Segments()) != segments || len(d.List()) != segments {
			t.Error("Truncate", before, e, l.Segments(), d.List())
		}
		if l.First() != 6-2*segments || l.Next() != 5 {
			t.Error("First", l.First())
		}
	}
	d := disk.New()
	l, _ := must(t, d, 64)
	fill(t, l, 0, 5)
	for _, before := range []int{-1, 6} {
		if e := l.Truncate(before); e != api.ErrRange {
			t.Error("Truncate", before, e)
		}
	}
	d.SetBudget(1)
	if e := l.Truncate(5); e != api.ErrCrash || !slices.Equal(l.Segments(), []string{"log-0000000002", "log-0000000004"}) {
		t.Error("oldest first", e, l.Segments())
	}
}

// P11.5
func TestEntries(t *testing.T) {
	l, _ := must(t, disk.New(), 64)
	fill(t, l, 0, 7)
	l.Truncate(3)
	for from := 2; from <= 7; from++ {
		entries, e := l.Entries(from)
		if e != api.OK {
			t.Error("Entries", from, e)
		}
		expect(t, entries, from, 7)
	}
	for _, from := range []int{-1, 1, 8} {
		if entries, e := l.Entries(from); len(entries) != 0 || e != api.ErrRange {
			t.Error("Entries", from, e)
		}
	}
	entries, _ := l.Entries(2)
	entries[0].Payload[0] = 99
	entries, _ = l.Entries(2)
	expect(t, entries, 2, 7)
}

// P11.7
func TestCrashes(t *testing.T) {
	for budget := range 40 {
		for a := range 4 {
			for b := range 3 {
				d := disk.New()
				d.SetBudget(budget)
				synced := 0
				if l, _, e := wal.Open(d, "log", 100); e == api.OK {
					for n := 0; !d.Down() && n < 12; n++ {
						l.Append(payload(n))
						if n%4 == 3 {
							l.Sync()
						}
					}
					synced = l.Synced()
				}
				d.Crash()
				d.Restart([]uint8{uint8(a), uint8(b), 17, uint8(a), 1, 30})
				once := d.Clone()
				_, entries := must(t, d, 100)
				if len(entries) < synced || len(entries) > 12 {
					t.Fatal("budget", budget, a, b, len(entries), synced)
				}
				expect(t, entries, 0, len(entries))
				for second := range 6 {
					c := once.Clone()
					c.SetBudget(second)
					wal.Open(c, "log", 100)
					c.Crash()
					c.Restart([]uint8{uint8(b), 0, 5})
					_, again := must(t, c, 100)
					expect(t, again, 0, len(entries))
				}
			}
		}
	}
}

// P11.8
func TestMemory(t *testing.T) {
	d := disk.New()
	l, _ := must(t, d, 64)
	p := payload(0)
	l.Append(p)
	p[0] = 99
	entries, _ := l.Entries(0)
	expect(t, entries, 0, 1)
	l.Segments()[0] = "x"
	state(t, l, 0, 1, 0, "log-0000000000")
	var none *wal.Log
	n, e := none.Append(make([]byte, wal.MaxPayload+1))
	entries, e2 := none.Entries(-1)
	if n != 0 || e != api.ErrArgument || len(entries) != 0 || e2 != api.ErrArgument || none.Sync() != api.ErrArgument || none.Truncate(-1) != api.ErrArgument {
		t.Error("nil log")
	}
	if none.First() != 0 || none.Next() != 0 || none.Synced() != 0 || len(none.Segments()) != 0 {
		t.Error("nil log")
	}
	if wal.MinSegment != 64 || wal.MaxSegment != 1<<20 || wal.MaxPayload != 1<<16 || wal.MaxPrefix != 16 {
		t.Error("constants")
	}
}
