package checkpoint_test

import (
	"bytes"
	"math"
	"slices"
	"strings"
	"testing"

	"giro/api"
	"giro/checkpoint"
	"giro/codec"
	"giro/disk"
	"giro/record"
)

func must(t *testing.T, d *disk.Disk, name string) *checkpoint.Store {
	t.Helper()
	s, e := checkpoint.Open(d, name)
	if e != api.OK || s == nil {
		t.Fatal("Open", e)
	}
	return s
}

func save(t *testing.T, s *checkpoint.Store, sequence int, data string, want api.Errno) {
	t.Helper()
	if e := s.Save(sequence, []byte(data)); e != want {
		t.Error("Save", sequence, e, "want", want)
	}
}

func load(t *testing.T, s *checkpoint.Store, sequence int, data string, want api.Errno) {
	t.Helper()
	got, b, e := s.Load()
	if got != sequence || string(b) != data || e != want {
		t.Errorf("Load = %d, %q, %d, want %d, %q, %d", got, b, e, sequence, data, want)
	}
}

// put creates a durable file.
func put(d *disk.Disk, name string, b []byte) {
	d.Create(name)
	d.Append(name, b)
	d.Sync(name)
}

// contents returns the contents of a snapshot's file by the chapter's words.
func contents(sequence uint64, data []byte) []byte {
	w := codec.NewWriter()
	w.Uint(sequence)
	w.Blob(data)
	b, _ := record.Encode(w.Bytes())
	return b
}

// P12.1
func TestFileName(t *testing.T) {
	long := strings.Repeat("z", checkpoint.MaxName)
	for _, x := range []struct {
		name     string
		sequence int
		want     string
		e        api.Errno
	}{
		{"state", 42, "state-0000000042.ckpt", api.OK}, {"0", 0, "0-0000000000.ckpt", api.OK},
		{long, checkpoint.MaxSequence, long + "-1000000000.ckpt", api.OK},
		{"", -1, "", api.ErrUnknown}, {long + "z", 0, "", api.ErrUnknown}, {"State", 0, "", api.ErrUnknown}, {"a-b", 0, "", api.ErrUnknown},
		{"a.b", 0, "", api.ErrUnknown}, {"a", -1, "", api.ErrRange}, {"a", checkpoint.MaxSequence + 1, "", api.ErrRange},
	} {
		if got, e := checkpoint.FileName(x.name, x.sequence); got != x.want || e != x.e {
			t.Errorf("FileName(%q, %d) = %q, %d", x.name, x.sequence, got, e)
		}
	}
}

// P12.1 P12.2
func TestEncodeDecode(t *testing.T) {
	for _, n := range []int{0, 1, 300, checkpoint.MaxData} {
		for _, sequence := range []int{0, 1, 128, checkpoint.MaxSequence} {
			data := bytes.Repeat([]byte{byte(n)}, n)
			b, e := checkpoint.Encode(sequence, data)
			if !bytes.Equal(b, contents(uint64(sequence), data)) || e != api.OK {
				t.Error("Encode", sequence, n, e)
			}
			got, back, e := checkpoint.Decode(b)
			if got != sequence || !bytes.Equal(back, data) || e != api.OK {
				t.Error("Decode", got, len(back), e)
			}
		}
	}
	long := make([]byte, checkpoint.MaxData+1)
	for _, x := range []struct {
		sequence int
		data     []byte
		e        api.Errno
	}{{-1, long, api.ErrRange}, {checkpoint.MaxSequence + 1, nil, api.ErrRange}, {math.MinInt, nil, api.ErrRange}, {0, long, api.ErrLong}} {
		if b, e := checkpoint.Encode(x.sequence, x.data); len(b) != 0 || e != x.e {
			t.Error("Encode", x.sequence, e)
		}
	}
}

// P12.2
func TestDecodeErrors(t *testing.T) {
	framed := func(b ...byte) []byte { r, _ := record.Encode(b); return r }
	good := contents(5, []byte("abc"))
	damaged := bytes.Clone(good)
	damaged[9] ^= 1
	for name, x := range map[string]struct {
		b []byte
		e api.Errno
	}{
		"empty": {nil, api.ErrTruncated}, "cut": {good[:len(good)-1], api.ErrTruncated}, "damaged": {damaged, api.ErrChecksum},
		"range": {[]byte{0, 0, 0, 1, 0, 0, 0, 0}, api.ErrRange}, "more": {append(bytes.Clone(good), 0), api.ErrLong},
		"no payload": {framed(), api.ErrTruncated}, "no data": {framed(5), api.ErrTruncated}, "short data": {framed(5, 2, 0), api.ErrTruncated},
		"long data": {framed(5, 1, 0, 0), api.ErrLong}, "format": {framed(0x80, 0, 0), api.ErrFormat}, "sequence": {contents(checkpoint.MaxSequence+1, nil), api.ErrRange},
		"huge sequence": {contents(math.MaxUint64, nil), api.ErrRange}, "much data": {contents(5, make([]byte, checkpoint.MaxData+1)), api.ErrLong},
		"both": {contents(math.MaxUint64, make([]byte, checkpoint.MaxData+1)), api.ErrRange}, "both ends": {append(framed(5, 1), 7), api.ErrLong},
	} {
		if n, b, e := checkpoint.Decode(x.b); n != 0 || len(b) != 0 || e != x.e {
			t.Error(name, n, len(b), e, "want", x.e)
		}
	}
}

// P12.3
func TestOpen(t *testing.T) {
	d := disk.New()
	put(d, "a.tmp", []byte{1})
	put(d, "b.tmp", []byte{1})
	must(t, d, "a")
	if !slices.Equal(d.List(), []string{"b.tmp"}) {
		t.Error(d.List())
	}
	down := disk.New()
	down.Crash()
	failing := disk.New()
	put(failing, "a.tmp", nil)
	failing.SetBudget(0)
	quiet := disk.New()
	quiet.SetBudget(0)
	for _, x := range []struct {
		d    *disk.Disk
		name string
		e    api.Errno
	}{{nil, "", api.ErrArgument}, {down, "", api.ErrUnknown}, {down, "a-", api.ErrUnknown}, {down, "a", api.ErrCrash}, {failing, "a", api.ErrCrash}, {quiet, "a", api.OK}} {
		if s, e := checkpoint.Open(x.d, x.name); (s != nil) != (e == api.OK) || e != x.e {
			t.Error("Open", x.name, e, "want", x.e)
		}
	}
}

// P12.4 P12.5
func TestSaveLoad(t *testing.T) {
	d := disk.New()
	s := must(t, d, "state")
	load(t, s, 0, "", api.ErrNotFound)
	for i, n := range []int{0, 5, 6, 1000} {
		save(t, s, n, strings.Repeat("x", n), api.OK)
		load(t, s, n, strings.Repeat("x", n), api.OK)
		want := [][]int{{0}, {0, 5}, {5, 6}, {6, 1000}}[i]
		if !slices.Equal(s.Sequences(), want) || len(d.List()) != len(want) {
			t.Error(s.Sequences(), d.List())
		}
	}
	save(t, s, 1000, "y", api.ErrSequence)
	save(t, s, 7, "y", api.ErrSequence)
	save(t, s, -1, "y", api.ErrRange)
	save(t, s, checkpoint.MaxSequence+1, "y", api.ErrRange)
	save(t, s, 7, strings.Repeat("y", checkpoint.MaxData+1), api.ErrLong)
	load(t, s, 1000, strings.Repeat("x", 1000), api.OK)
	b, _ := d.Read("state-0000001000.ckpt")
	if !bytes.Equal(b, contents(1000, bytes.Repeat([]byte{'x'}, 1000))) || d.Pending("state-0000001000.ckpt") != 0 {
		t.Error("file", len(b))
	}
}

// P12.4: which files are removed does not depend on whether they are intact.
func TestDamagedFiles(t *testing.T) {
	d := disk.New()
	for _, n := range []int{1, 2, 3, 8, 9} {
		name, _ := checkpoint.FileName("s", n)
		b := contents(uint64(n), []byte{byte(n)})
		if n == 3 || n == 9 {
			b[len(b)-1]++
		}
		if n == 8 {
			b = contents(7, nil)
		}
		put(d, name, b)
	}
	others := []string{"s-00000000001.ckpt", "s-1000000001.ckpt", "s-000000001x.ckpt", "s-0000000001.ckpt.x", "s2-0000000001.ckpt", "s-0000000001", "t-0000000001.ckpt"}
	for _, name := range others {
		put(d, name, contents(1, nil))
	}
	s := must(t, d, "s")
	load(t, s, 2, "\x02", api.OK)
	if !slices.Equal(s.Sequences(), []int{1, 2}) {
		t.Error(s.Sequences())
	}
	put(d, "s.tmp", []byte{1, 2, 3})
	save(t, s, 2, "x", api.ErrSequence)
	save(t, s, 5, "five", api.OK)
	load(t, s, 5, "five", api.OK)
	want := append([]string{"s-0000000003.ckpt", "s-0000000005.ckpt"}, others...)
	slices.Sort(want)
	if !slices.Equal(d.List(), want) {
		t.Error(d.List())
	}
}

// P12.4: the order of the steps, seen by stopping after each.
func TestSteps(t *testing.T) {
	make := func() *disk.Disk {
		d := disk.New()
		for _, n := range []int{1, 2, 9} {
			name, _ := checkpoint.FileName("s", n)
			b := contents(uint64(n), []byte{byte(n)})
			if n == 9 {
				b[0]++
			}
			put(d, name, b)
		}
		return d
	}
	a, b, c, e := "s-0000000001.ckpt", "s-0000000002.ckpt", "s-0000000005.ckpt", "s-0000000009.ckpt"
	for budget, want := range [][]string{{a, b, e, "s.tmp"}, {a, b, e}, {a, b, e, "s.tmp"}, {a, b, e, "s.tmp"}, {a, b, e, "s.tmp"}, {a, b, c, e}, {b, c, e}, {b, c}} {
		d := make()
		s := must(t, d, "s")
		put(d, "s.tmp", []byte{7})
		d.SetBudget(budget)
		err := s.Save(5, []byte("five"))
		if (err == api.OK) != (budget == 7) || err != api.OK && err != api.ErrCrash {
			t.Fatal("budget", budget, err)
		}
		d.Crash()
		d.Restart([]uint8{0, 1})
		if !slices.Equal(d.List(), want) {
			t.Error("budget", budget, d.List(), "want", want)
		}
	}
}

// P12.5 P12.6
func TestDownAndNil(t *testing.T) {
	d := disk.New()
	s := must(t, d, "s")
	save(t, s, 3, "abc", api.OK)
	d.SetBudget(0)
	load(t, s, 3, "abc", api.OK)
	if len(s.Sequences()) != 1 || d.Down() {
		t.Error("Load or Sequences modify the disk")
	}
	d.Crash()
	load(t, s, 0, "", api.ErrCrash)
	save(t, s, 1, "x", api.ErrCrash)
	save(t, s, -1, "x", api.ErrRange)
	if len(s.Sequences()) != 0 {
		t.Error(s.Sequences())
	}
	var none *checkpoint.Store
	save(t, none, -1, "", api.ErrArgument)
	load(t, none, 0, "", api.ErrArgument)
	if len(none.Sequences()) != 0 {
		t.Error("nil store")
	}
	d.Restart(nil)
	data := []byte("new")
	s.Save(4, data)
	data[0] = 'x'
	_, b, _ := s.Load()
	b[1] = 'x'
	load(t, s, 4, "new", api.OK)
}

// P12.7
func TestCrashes(t *testing.T) {
	for old := range 3 {
		for budget := range 9 {
			for a := range 4 {
				for b := range 4 {
					d := disk.New()
					s := must(t, d, "s")
					other := must(t, d, "s2")
					save(t, other, 77, "other", api.OK)
					want, data, e := 0, "", api.ErrNotFound
					for n := range old {
						want, data, e = n+1, "old", api.OK
						save(t, s, want, data, api.OK)
					}
					d.SetBudget(budget)
					saved := s.Save(9, []byte("new data"))
					d.Crash()
					d.Restart([]uint8{uint8(a), uint8(b), 20, uint8(b)})
					s = must(t, d, "s")
					got, text, gotE := s.Load()
					isNew := got == 9 && string(text) == "new data" && gotE == api.OK
					isOld := got == want && string(text) == data && gotE == e
					if !isNew && (saved == api.OK || !isOld) {
						t.Error("old", old, "budget", budget, got, string(text), gotE)
					}
					load(t, other, 77, "other", api.OK)
				}
			}
		}
	}
}

// P12.7
func TestEveryChange(t *testing.T) {
	d := disk.New()
	s := must(t, d, "s")
	save(t, s, 3, "old", api.OK)
	save(t, s, 4, "new", api.OK)
	name := "s-0000000004.ckpt"
	b, _ := d.Read(name)
	for i := range b {
		for x := 1; x < 256; x += 7 {
			d.WriteAt(name, i, []byte{b[i] ^ byte(x)})
			load(t, s, 3, "old", api.OK)
			d.WriteAt(name, i, b[i:i+1])
			d.Sync(name)
		}
	}
	load(t, s, 4, "new", api.OK)
}

// Example 1
func TestExample(t *testing.T) {
	b, _ := checkpoint.Encode(42, []byte("abc"))
	want, _ := record.Encode([]byte{0x2a, 3, 0x61, 0x62, 0x63})
	if !bytes.Equal(b, want) || checkpoint.Keep != 2 {
		t.Error(b)
	}
}
