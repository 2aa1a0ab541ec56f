package record_test

import (
	"bytes"
	"encoding/binary"
	"hash/crc32"
	"testing"

	"giro/api"
	"giro/record"
)

func crc(b []byte) uint32 { return crc32.Checksum(b, crc32.MakeTable(crc32.Castagnoli)) }

// framed returns a record by the words of the chapter.
func framed(p []byte) []byte {
	b := binary.LittleEndian.AppendUint32(nil, uint32(len(p)))
	b = binary.LittleEndian.AppendUint32(b, crc(append(b[:4:4], p...)))
	return append(b, p...)
}

func payload(n int) []byte {
	b := make([]byte, n)
	for i := range b {
		b[i] = byte(i*5 + n)
	}
	return b
}

// P9.1
func TestChecksum(t *testing.T) {
	b := payload(600)
	for n := range b {
		if record.Checksum(b[:n]) != crc(b[:n]) {
			t.Fatal("Checksum", n)
		}
		if record.Extend(crc(b[:n]), b[n:]) != crc(b) {
			t.Fatal("Extend", n)
		}
	}
	if record.Checksum(nil) != 0 || record.Extend(77, nil) != 77 {
		t.Error("empty")
	}
}

// P9.2
func TestEncode(t *testing.T) {
	var all []byte
	var payloads [][]byte
	for _, n := range []int{0, 1, 5, 255, 256, 70000, record.MaxPayload} {
		p := payload(n)
		b, e := record.Encode(p)
		if !bytes.Equal(b, framed(p)) || e != api.OK {
			t.Error("Encode", n, e)
		}
		all = append(all, b...)
		payloads = append(payloads, p)
	}
	if b, e := record.EncodeAll(payloads); !bytes.Equal(b, all) || e != api.OK {
		t.Error("EncodeAll", e)
	}
	if b, e := record.EncodeAll(nil); len(b) != 0 || e != api.OK {
		t.Error("EncodeAll(nil)", e)
	}
	long := make([]byte, record.MaxPayload+1)
	if b, e := record.Encode(long); len(b) != 0 || e != api.ErrLong {
		t.Error("Encode", e)
	}
	if b, e := record.EncodeAll([][]byte{{1}, long}); len(b) != 0 || e != api.ErrLong {
		t.Error("EncodeAll", e)
	}
}

// P9.3
func TestNext(t *testing.T) {
	for _, n := range []int{0, 3, record.MaxPayload} {
		p := payload(n)
		b := append(framed(p), 1, 2, 3)
		got, size, e := record.Next(b)
		if !bytes.Equal(got, p) || size != n+record.HeaderSize || e != api.OK {
			t.Error("Next", n, size, e)
		}
	}
	good := framed([]byte("abc"))
	wrong := bytes.Clone(good)
	wrong[5]++
	for _, x := range []struct {
		b []byte
		e api.Errno
	}{
		{nil, api.ErrTruncated}, {good[:7], api.ErrTruncated}, {good[:8], api.ErrTruncated}, {good[:10], api.ErrTruncated},
		{[]byte{0xff, 0xff, 0xff, 0xff}, api.ErrTruncated}, {[]byte{1, 0, 16, 0, 0, 0, 0, 0}, api.ErrRange},
		{[]byte{0xff, 0xff, 0xff, 0xff, 0, 0, 0, 0}, api.ErrRange}, {[]byte{0, 0, 16, 0, 0, 0, 0, 0}, api.ErrTruncated},
		{wrong, api.ErrChecksum}, {make([]byte, 8), api.ErrChecksum}, {wrong[:9], api.ErrTruncated},
	} {
		if p, size, e := record.Next(x.b); len(p) != 0 || size != 0 || e != x.e {
			t.Error("Next", x.b, size, e, "want", x.e)
		}
	}
}

// P9.3 P9.5
func TestEveryChange(t *testing.T) {
	b := framed([]byte("payload"))
	for i := range b {
		for d := 1; d < 256; d++ {
			b[i] ^= byte(d)
			if _, _, e := record.Next(b); e == api.OK {
				t.Error("not detected", i, d)
			}
			b[i] ^= byte(d)
		}
	}
}

// P9.3 P9.4 P9.5
func TestScan(t *testing.T) {
	payloads := [][]byte{[]byte("one"), nil, []byte("three"), {0, 0, 0, 0, 0, 0, 0, 0}}
	var b []byte
	ends := []int{0}
	for _, p := range payloads {
		b = append(b, framed(p)...)
		ends = append(ends, len(b))
	}
	check := func(b []byte, n int, e api.Errno) {
		t.Helper()
		got, size, gotE := record.Scan(b)
		if len(got) != n || size != ends[n] || gotE != e {
			t.Error("Scan", len(got), size, gotE, "want", n, ends[n], e)
			return
		}
		i := 0
		for at, p := range record.All(b) {
			if at != ends[i] || !bytes.Equal(p, payloads[i]) || !bytes.Equal(got[i], p) {
				t.Error("All", at, p)
			}
			i++
		}
		if i != n {
			t.Error("All", i)
		}
	}
	for cut := range len(b) + 1 {
		n := 0
		for n+1 < len(ends) && ends[n+1] <= cut {
			n++
		}
		e := api.ErrTruncated
		if ends[n] == cut {
			e = api.OK
		}
		check(b[:cut], n, e)
	}
	b[ends[2]+9] ^= 1
	check(b, 2, api.ErrChecksum)
	check(append(b[:ends[2]:ends[2]], 0, 0, 0, 1, 0, 0, 0, 0), 2, api.ErrRange)
}

// P9.4 P9.5
func TestIteration(t *testing.T) {
	b := append(framed([]byte("ab")), framed([]byte("cd"))...)
	n := 0
	for range record.All(b) {
		n++
		break
	}
	if n != 1 {
		t.Error("iteration goes on")
	}
	all := record.All(b)
	want := bytes.Clone(b)
	for _, p := range all {
		p[0] = 0
	}
	payloads, _, _ := record.Scan(b)
	payloads[0][0] = 0
	p, _, _ := record.Next(b)
	p[0] = 0
	if !bytes.Equal(b, want) {
		t.Error("payloads share memory with the argument")
	}
	for range record.All(nil) {
		t.Error("record of nothing")
	}
}

// Example 1
func TestExample(t *testing.T) {
	if record.Checksum([]byte("123456789")) != 0xE3069283 || record.HeaderSize != 8 || record.MaxPayload != 1<<20 {
		t.Error("constants")
	}
	if b, _ := record.Encode(nil); !bytes.Equal(b, []byte{0, 0, 0, 0, 0xc7, 0x4b, 0x67, 0x48}) {
		t.Error("empty payload", b)
	}
}
