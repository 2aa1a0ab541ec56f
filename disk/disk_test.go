package disk_test

import (
	"bytes"
	"math"
	"slices"
	"strconv"
	"strings"
	"testing"

	"giro/api"
	"giro/disk"
)

func want(t *testing.T, what string, got, e api.Errno) {
	t.Helper()
	if got != e {
		t.Errorf("%s: error %d, want %d", what, got, e)
	}
}

func contents(t *testing.T, d *disk.Disk, name string, b []byte) {
	t.Helper()
	got, e := d.Read(name)
	size, e2 := d.Size(name)
	if e != api.OK || e2 != api.OK || !bytes.Equal(got, b) || size != len(b) {
		t.Errorf("contents of %s: %v, size %d, errors %d, %d, want %v", name, got, size, e, e2, b)
	}
}

// with returns a disk with files that are empty.
func with(names ...string) *disk.Disk {
	d := disk.New()
	for _, name := range names {
		d.Create(name)
	}
	return d
}

// P10.1
func TestNew(t *testing.T) {
	d := disk.New()
	if len(d.List()) != 0 || d.Budget() != -1 || d.Down() {
		t.Error("new disk")
	}
}

// operations returns every method that returns an error, with valid arguments for a disk with the file f.
func operations(d *disk.Disk) map[string]func() api.Errno {
	return map[string]func() api.Errno{
		"Create":    func() api.Errno { return d.Create("new") },
		"WriteAt":   func() api.Errno { return d.WriteAt("f", 0, []byte{1}) },
		"Append":    func() api.Errno { return d.Append("f", []byte{1}) },
		"Truncate":  func() api.Errno { return d.Truncate("f", 0) },
		"Sync":      func() api.Errno { return d.Sync("f") },
		"Rename":    func() api.Errno { return d.Rename("f", "g") },
		"Remove":    func() api.Errno { return d.Remove("f") },
		"Read":      func() api.Errno { _, e := d.Read("f"); return e },
		"Size":      func() api.Errno { _, e := d.Size("f"); return e },
		"SetBudget": func() api.Errno { return d.SetBudget(5) },
		"Crash":     func() api.Errno { return d.Crash() },
	}
}

// P10.1
func TestNilAndDown(t *testing.T) {
	for name, f := range operations(nil) {
		want(t, name+" of nil", f(), api.ErrArgument)
	}
	var none *disk.Disk
	want(t, "Restart of nil", none.Restart(nil), api.ErrArgument)
	if len(none.List()) != 0 || none.Pending("f") != 0 || none.Budget() != -1 || none.Down() || none.Clone() != nil || !none.Equal(nil) {
		t.Error("nil disk")
	}
	d := with("f")
	d.Append("f", []byte{1})
	want(t, "Crash", d.Crash(), api.OK)
	for name, f := range operations(d) {
		want(t, name+" when down", f(), api.ErrCrash)
	}
	want(t, "wrong name when down", d.Create("?"), api.ErrCrash)
	if len(d.List()) != 0 || d.Pending("f") != 0 || d.Budget() != 0 || !d.Down() {
		t.Error("disk that is down")
	}
	if b, e := d.Read("f"); len(b) != 0 || e != api.ErrCrash {
		t.Error("Read", b, e)
	}
}

// P10.1 P10.5
func TestBudget(t *testing.T) {
	for name, modifying := range map[string]bool{"Create": true, "WriteAt": true, "Append": true, "Truncate": true, "Sync": true, "Rename": true, "Remove": true, "Read": false, "Size": false} {
		d := with("f")
		d.Append("f", []byte{7})
		d.SetBudget(1)
		want(t, name, operations(d)[name](), api.OK)
		left := 1
		if modifying {
			left = 0
		}
		if d.Budget() != left {
			t.Error(name, "leaves the budget", d.Budget())
		}
		d = with("f")
		d.Append("f", []byte{7})
		d.SetBudget(0)
		before := d.Clone()
		e := operations(d)[name]()
		if !modifying {
			want(t, name, e, api.OK)
			continue
		}
		want(t, name, e, api.ErrCrash)
		if !d.Down() || d.Budget() != 0 {
			t.Error(name, "does not crash")
		}
		before.Crash()
		if !d.Equal(before) {
			t.Error(name, "has an effect")
		}
	}
	d := with("f")
	d.SetBudget(0)
	want(t, "own errors first", d.Create("f"), api.ErrDuplicate)
	want(t, "own errors first", d.Rename("x", "y"), api.ErrNotFound)
	want(t, "no bytes", d.Append("f", nil), api.OK)
	want(t, "no bytes", d.WriteAt("f", 9, nil), api.OK)
	want(t, "SetBudget", d.SetBudget(-2), api.ErrRange)
	want(t, "SetBudget", d.SetBudget(math.MinInt), api.ErrRange)
	if d.Budget() != 0 || d.Down() {
		t.Error("budget", d.Budget())
	}
	want(t, "SetBudget", d.SetBudget(-1), api.OK)
	want(t, "Sync", d.Sync("f"), api.OK)
	if d.Budget() != -1 {
		t.Error("budget", d.Budget())
	}
}

// P10.2
func TestCreate(t *testing.T) {
	d := disk.New()
	long := strings.Repeat("x", 64)
	for _, name := range []string{"a", "a.b-c_9", "_", ".", "-", long} {
		want(t, name, d.Create(name), api.OK)
		contents(t, d, name, nil)
	}
	if !slices.Equal(d.List(), []string{"-", ".", "_", "a", "a.b-c_9", long}) {
		t.Error(d.List())
	}
	for _, name := range []string{"", long + "x", "A", "a b", "a/b", "\xff", "a\x00"} {
		want(t, name, d.Create(name), api.ErrUnknown)
		want(t, name, d.Rename("a", name), api.ErrUnknown)
	}
	want(t, "again", d.Create("a"), api.ErrDuplicate)
	for i := len(d.List()); i < disk.MaxFiles; i++ {
		want(t, "many", d.Create("n"+strconv.Itoa(i)), api.OK)
	}
	want(t, "too many", d.Create("another"), api.ErrLimit)
	want(t, "too many", d.Create("a"), api.ErrDuplicate)
	want(t, "too many", d.Create("A"), api.ErrUnknown)
	d.Crash()
	d.Restart(nil)
	if len(d.List()) != disk.MaxFiles {
		t.Error("files are not durable")
	}
}

// P10.2
func TestRenameRemove(t *testing.T) {
	d := with("f", "g")
	d.Append("f", []byte{1, 2})
	d.Sync("f")
	d.Append("f", []byte{3})
	d.Append("g", []byte{9})
	want(t, "Rename", d.Rename("f", "g"), api.OK)
	contents(t, d, "g", []byte{1, 2, 3})
	if d.Pending("g") != 1 || !slices.Equal(d.List(), []string{"g"}) {
		t.Error("Rename", d.Pending("g"), d.List())
	}
	want(t, "Rename to itself", d.Rename("g", "g"), api.OK)
	contents(t, d, "g", []byte{1, 2, 3})
	want(t, "Rename", d.Rename("f", "?"), api.ErrNotFound)
	d.Crash()
	d.Restart(nil)
	contents(t, d, "g", []byte{1, 2})
	want(t, "Remove", d.Remove("g"), api.OK)
	want(t, "Remove", d.Remove("g"), api.ErrNotFound)
	d.Crash()
	d.Restart(nil)
	if len(d.List()) != 0 {
		t.Error("Remove is not durable")
	}
}

// P10.3 P10.4
func TestWrites(t *testing.T) {
	d := with("f")
	b := []byte{1, 2}
	want(t, "WriteAt", d.WriteAt("f", 3, b), api.OK)
	b[0] = 9
	contents(t, d, "f", []byte{0, 0, 0, 1, 2})
	want(t, "WriteAt", d.WriteAt("f", 1, []byte{7, 8, 9}), api.OK)
	contents(t, d, "f", []byte{0, 7, 8, 9, 2})
	want(t, "Append", d.Append("f", []byte{4}), api.OK)
	contents(t, d, "f", []byte{0, 7, 8, 9, 2, 4})
	if d.Pending("f") != 3 || d.Pending("x") != 0 {
		t.Error("Pending", d.Pending("f"))
	}
	want(t, "Append", d.Append("f", nil), api.OK)
	want(t, "WriteAt", d.WriteAt("f", 100, []byte{}), api.OK)
	contents(t, d, "f", []byte{0, 7, 8, 9, 2, 4})
	if d.Pending("f") != 3 {
		t.Error("a write without bytes is pending")
	}
	got, _ := d.Read("f")
	got[0] = 5
	contents(t, d, "f", []byte{0, 7, 8, 9, 2, 4})
	want(t, "Sync", d.Sync("f"), api.OK)
	contents(t, d, "f", []byte{0, 7, 8, 9, 2, 4})
	if d.Pending("f") != 0 {
		t.Error("Pending after Sync")
	}
	d.Append("f", []byte{6, 7})
	want(t, "Truncate", d.Truncate("f", 7), api.OK)
	contents(t, d, "f", []byte{0, 7, 8, 9, 2, 4, 6})
	if d.Pending("f") != 0 {
		t.Error("Pending after Truncate")
	}
	d.Crash()
	d.Restart(nil)
	contents(t, d, "f", []byte{0, 7, 8, 9, 2, 4, 6})
	d.Truncate("f", 1)
	d.WriteAt("f", 3, []byte{5})
	contents(t, d, "f", []byte{0, 0, 0, 5})
	d.Sync("f")
	d.Crash()
	d.Restart(nil)
	contents(t, d, "f", []byte{0, 0, 0, 5})
}

// P10.3 P10.4
func TestWriteErrors(t *testing.T) {
	d := with("f")
	one := []byte{1}
	want(t, "WriteAt", d.WriteAt("x", -1, one), api.ErrNotFound)
	want(t, "WriteAt", d.WriteAt("f", -1, nil), api.ErrRange)
	want(t, "WriteAt", d.WriteAt("f", disk.MaxFileSize, one), api.ErrRange)
	want(t, "WriteAt", d.WriteAt("f", math.MaxInt, one), api.ErrRange)
	want(t, "WriteAt", d.WriteAt("f", disk.MaxFileSize+1, nil), api.ErrRange)
	want(t, "WriteAt", d.WriteAt("f", disk.MaxFileSize-1, one), api.OK)
	want(t, "Append", d.Append("f", one), api.ErrRange)
	want(t, "Append", d.Append("f", nil), api.OK)
	want(t, "Append", d.Append("x", nil), api.ErrNotFound)
	want(t, "Sync", d.Sync("x"), api.ErrNotFound)
	want(t, "Truncate", d.Truncate("x", -1), api.ErrNotFound)
	want(t, "Truncate", d.Truncate("f", -1), api.ErrRange)
	want(t, "Truncate", d.Truncate("f", disk.MaxFileSize+1), api.ErrRange)
	want(t, "Truncate", d.Truncate("f", disk.MaxFileSize), api.OK)
	if b, e := d.Read("x"); len(b) != 0 || e != api.ErrNotFound {
		t.Error("Read", e)
	}
	if n, e := d.Size("x"); n != 0 || e != api.ErrNotFound {
		t.Error("Size", e)
	}
}

// restarted returns the contents of a file f with durable contents 1 2 3 and the pending writes 4 5 6 at 3 and 7 8 at 1 after a restart.
func restarted(choices ...uint8) []byte {
	d := with("f")
	d.Append("f", []byte{1, 2, 3})
	d.Sync("f")
	d.Append("f", []byte{4, 5, 6})
	d.WriteAt("f", 1, []byte{7, 8})
	d.Crash()
	d.Restart(choices)
	b, _ := d.Read("f")
	return b
}

// P10.5
func TestRestartPrefix(t *testing.T) {
	for _, x := range []struct {
		choices []uint8
		want    []byte
	}{
		{nil, []byte{1, 2, 3}}, {[]uint8{0, 0, 2}, []byte{1, 2, 3, 4, 5}}, {[]uint8{0, 0, 3}, []byte{1, 2, 3, 4, 5, 6}},
		{[]uint8{0, 0, 4}, []byte{1, 2, 3}}, {[]uint8{2, 1}, []byte{1, 2, 3, 4, 5, 6}}, {[]uint8{4, 1, 1}, []byte{1, 7, 3, 4, 5, 6}},
		{[]uint8{254, 2, 9}, []byte{1, 7, 8, 4, 5, 6}}, {[]uint8{0, 3, 1}, []byte{1, 2, 3, 4}}, {[]uint8{0, 255, 255}, []byte{1, 2, 3, 4, 5, 6}},
		{[]uint8{1}, []byte{1, 2, 3}}, {[]uint8{1, 1}, []byte{1, 2, 3, 4, 5, 6}}, {[]uint8{3, 0, 1}, []byte{1, 7, 8}}, {[]uint8{255, 2, 254}, []byte{1, 2, 3}},
		{[]uint8{1, 1, 1, 9, 9}, []byte{1, 7, 8, 4, 5, 6}},
	} {
		if got := restarted(x.choices...); !bytes.Equal(got, x.want) {
			t.Error("choices", x.choices, "lead to", got, "want", x.want)
		}
	}
}

// P10.5
func TestRestartFiles(t *testing.T) {
	// Choices are consumed in the order of names, for files with pending writes only, also where no further write is left.
	d := with("c", "a", "b")
	for _, name := range []string{"c", "b", "a"} {
		d.Append(name, []byte{1, 2})
	}
	d.Sync("b")
	d.Crash()
	want(t, "Restart", d.Restart([]uint8{0, 1, 1, 0, 0, 1}), api.OK)
	contents(t, d, "a", []byte{1, 2})
	contents(t, d, "b", []byte{1, 2})
	contents(t, d, "c", []byte{1})
	if d.Pending("a") != 0 || d.Pending("c") != 0 || d.Down() || d.Budget() != -1 {
		t.Error("state after restart")
	}
	want(t, "Restart", d.Restart(nil), api.ErrState)
	d.SetBudget(0)
	want(t, "Sync", d.Sync("a"), api.ErrCrash)
	want(t, "Restart", d.Restart(nil), api.OK)
	if d.Budget() != -1 {
		t.Error("budget after restart", d.Budget())
	}
	contents(t, d, "a", []byte{1, 2})
}

// P10.5
func TestRestartPieces(t *testing.T) {
	long := make([]byte, 512*10)
	for i := range long {
		long[i] = byte(1 + i/512)
	}
	for mask := range 256 {
		d := with("f")
		d.WriteAt("f", 500, long)
		d.Crash()
		d.Restart([]uint8{1, uint8(mask)})
		var expected []byte
		for i, x := range long {
			at := 500 + i
			if mask>>(at/512%8)&1 == 1 {
				expected = append(expected, make([]byte, max(0, at+1-len(expected)))...)
				expected[at] = x
			}
		}
		got, _ := d.Read("f")
		if !bytes.Equal(got, expected) {
			t.Fatal("mask", mask, len(got), len(expected))
		}
	}
	// The pieces are those of offsets in the file, not in the write, and are counted for each write.
	d := with("f")
	d.WriteAt("f", 512, []byte{1, 2})
	d.WriteAt("f", 1023, []byte{3, 4})
	d.Crash()
	d.Restart([]uint8{1, 1, 2})
	got, _ := d.Read("f")
	if len(got) != 1025 || got[512] != 1 || got[513] != 2 || got[1023] != 0 || got[1024] != 4 {
		t.Error("pieces of two writes", len(got))
	}
}

// P10.6
func TestCloneEqual(t *testing.T) {
	make := func() *disk.Disk {
		d := with("f", "g")
		d.Append("f", []byte{1, 2})
		d.Sync("f")
		d.Append("f", []byte{3})
		return d
	}
	d := make()
	for name, change := range map[string]func(d *disk.Disk){
		"pending":  func(d *disk.Disk) { d.WriteAt("f", 0, []byte{8}) },
		"other":    func(d *disk.Disk) { d.Append("g", []byte{8}) },
		"sync":     func(d *disk.Disk) { d.Sync("f") },
		"name":     func(d *disk.Disk) { d.Rename("g", "h") },
		"remove":   func(d *disk.Disk) { d.Remove("g") },
		"create":   func(d *disk.Disk) { d.Create("h") },
		"budget":   func(d *disk.Disk) { d.SetBudget(5) },
		"budget 0": func(d *disk.Disk) { d.SetBudget(0) },
		"down":     func(d *disk.Disk) { d.Crash() },
		"truncate": func(d *disk.Disk) { d.Truncate("f", 0) },
	} {
		c := d.Clone()
		if !c.Equal(d) || !d.Equal(make()) {
			t.Fatal("clone is not equal")
		}
		change(c)
		if c.Equal(d) || d.Equal(c) {
			t.Error(name, "is not seen")
		}
		if !d.Equal(make()) {
			t.Fatal(name, "changed the original")
		}
	}
	a, b := with("f"), with("f")
	a.Append("f", []byte{1, 2})
	b.Append("f", []byte{1})
	b.Append("f", []byte{2})
	if a.Equal(b) || a.Equal(nil) {
		t.Error("different pending writes are equal")
	}
}

// P10.7
func TestSyncedSurvives(t *testing.T) {
	for a := range 4 {
		for b := range 8 {
			for c := range 8 {
				d := with("f")
				d.Append("f", []byte{1, 2, 3})
				d.Sync("f")
				d.Crash()
				d.Restart([]uint8{uint8(a), uint8(b), uint8(c)})
				contents(t, d, "f", []byte{1, 2, 3})
				all := []byte{1, 2, 3, 4, 5, 6}
				d.Append("f", all[3:5])
				d.Append("f", all[5:])
				d.Crash()
				d.Restart([]uint8{uint8(2 * a), uint8(b), uint8(c)})
				if got, _ := d.Read("f"); len(got) < 3 || !bytes.HasPrefix(all, got) {
					t.Error("not a prefix", got)
				}
			}
		}
	}
}
