package codec_test

import (
	"bytes"
	"math"
	"slices"
	"strings"
	"testing"

	"giro/api"
	"giro/codec"
)

// base128 returns the digits of x to the base 128, by division.
func base128(x uint64) []byte {
	var b []byte
	for {
		digit := byte(x % 128)
		x /= 128
		if x == 0 {
			return append(b, digit)
		}
		b = append(b, digit+128)
	}
}

func numbers() []uint64 {
	l := []uint64{0, 1, 127, 128, 129, 255, 300, 16383, 16384, math.MaxUint64, math.MaxUint64 - 1, math.MaxInt64}
	for i := range 64 {
		l = append(l, 1<<i, 1<<i-1, 1<<i+1)
	}
	return l
}

func written(f func(w *codec.Writer)) []byte {
	w := codec.NewWriter()
	f(w)
	return w.Bytes()
}

// state checks what a reader says of itself.
func state(t *testing.T, r *codec.Reader, offset, rest int, e api.Errno) {
	t.Helper()
	if r.Offset() != offset || r.Rest() != rest || r.Err() != e {
		t.Errorf("offset %d, rest %d, error %d, want %d, %d, %d", r.Offset(), r.Rest(), r.Err(), offset, rest, e)
	}
}

// P8.1 P8.2 P8.5
func TestIntegers(t *testing.T) {
	for _, x := range numbers() {
		b := written(func(w *codec.Writer) { w.Uint(x) })
		if !bytes.Equal(b, base128(x)) {
			t.Error("Uint", x, b)
		}
		r := codec.NewReader(append(b, 7))
		if r.Uint() != x {
			t.Error("read", x)
		}
		state(t, r, len(b), 1, api.OK)
		for n := range b {
			r := codec.NewReader(b[:n])
			if r.Uint() != 0 {
				t.Error("prefix", x)
			}
			state(t, r, 0, n, api.ErrTruncated)
		}
		for _, y := range []int64{int64(x), -int64(x)} {
			zigzag := uint64(2 * y)
			if y < 0 {
				zigzag = uint64(-2*y - 1)
			}
			b := written(func(w *codec.Writer) { w.Int(y) })
			if !bytes.Equal(b, base128(zigzag)) {
				t.Error("Int", y, b)
			}
			r := codec.NewReader(b)
			if r.Int() != y || r.End() != api.OK {
				t.Error("read", y)
			}
		}
	}
}

// P8.2
func TestIntegerErrors(t *testing.T) {
	nine := bytes.Repeat([]byte{0x80}, 9)
	for _, x := range []struct {
		b []byte
		e api.Errno
	}{
		{nil, api.ErrTruncated}, {[]byte{0x80}, api.ErrTruncated}, {nine, api.ErrTruncated},
		{[]byte{0x80, 0}, api.ErrFormat}, {[]byte{0xff, 0x80, 0, 5}, api.ErrFormat}, {append(slices.Clone(nine), 0), api.ErrFormat},
		{append(slices.Clone(nine), 2), api.ErrRange}, {append(slices.Clone(nine), 0x80), api.ErrRange},
		{append(slices.Clone(nine), 0x81, 0), api.ErrRange}, {append(slices.Clone(nine), 0x80, 1), api.ErrRange},
	} {
		r := codec.NewReader(append([]byte{1}, x.b...))
		r.Uint()
		if r.Uint() != 0 {
			t.Error("Uint", x.b)
		}
		state(t, r, 1, len(x.b), x.e)
		r = codec.NewReader(x.b)
		if r.Int() != 0 {
			t.Error("Int", x.b)
		}
		state(t, r, 0, len(x.b), x.e)
	}
	r := codec.NewReader(append(slices.Clone(nine), 1))
	if r.Uint() != 1<<63 || r.End() != api.OK {
		t.Error("largest bit")
	}
}

// P8.1 P8.2
func TestBool(t *testing.T) {
	b := written(func(w *codec.Writer) { w.Bool(true); w.Bool(false); w.Bool(true) })
	if !bytes.Equal(b, []byte{1, 0, 1}) {
		t.Error(b)
	}
	r := codec.NewReader(append(b, 2))
	if !r.Bool() || r.Bool() || !r.Bool() {
		t.Error("read")
	}
	if r.Bool() {
		t.Error("2 is true")
	}
	state(t, r, 3, 1, api.ErrFormat)
	r = codec.NewReader([]byte{0x81})
	if r.Bool() {
		t.Error("81 is true")
	}
	state(t, r, 0, 1, api.ErrFormat)
	r = codec.NewReader(nil)
	if r.Bool() {
		t.Error("nothing is true")
	}
	state(t, r, 0, 0, api.ErrTruncated)
}

// P8.1 P8.2 P8.5
func TestStrings(t *testing.T) {
	for _, n := range []int{0, 1, 127, 128, 70000, codec.MaxLength} {
		s := strings.Repeat("x\xff", n)[:n]
		want := append(base128(uint64(n)), s...)
		a := written(func(w *codec.Writer) { w.String(s) })
		b := written(func(w *codec.Writer) { w.Blob([]byte(s)) })
		if !bytes.Equal(a, want) || !bytes.Equal(b, want) {
			t.Error("length", n)
		}
		r := codec.NewReader(append(a, 9))
		if r.String() != s {
			t.Error("String", n)
		}
		state(t, r, len(a), 1, api.OK)
		r = codec.NewReader(a)
		if string(r.Blob()) != s || r.End() != api.OK {
			t.Error("Blob", n)
		}
		if n > 0 {
			r = codec.NewReader(a[:len(a)-1])
			if len(r.Blob()) != 0 {
				t.Error("truncated", n)
			}
			state(t, r, 0, len(a)-1, api.ErrTruncated)
		}
	}
	long := written(func(w *codec.Writer) { w.String(strings.Repeat("x", codec.MaxLength+1)) })
	huge := append(base128(math.MaxUint64), 5)
	for _, b := range [][]byte{long, huge, base128(codec.MaxLength + 1)} {
		r := codec.NewReader(b)
		if r.String() != "" {
			t.Error("too long")
		}
		state(t, r, 0, len(b), api.ErrLong)
	}
	r := codec.NewReader([]byte{0x80, 0})
	if r.String() != "" {
		t.Error("malformed length")
	}
	state(t, r, 0, 2, api.ErrFormat)
}

// P8.3
func TestErrors(t *testing.T) {
	r := codec.NewReader([]byte{2, 1, 1, 97})
	if r.Bool() || r.Uint() != 0 || r.Int() != 0 || r.Bool() || r.String() != "" || len(r.Blob()) != 0 {
		t.Error("values after an error")
	}
	state(t, r, 0, 4, api.ErrFormat)
	r.Fail(api.ErrKind)
	if r.Err() != api.ErrFormat || r.End() != api.ErrFormat {
		t.Error("first error")
	}
	r = codec.NewReader([]byte{1})
	r.Fail(api.OK)
	if r.Err() != api.OK || r.End() != api.ErrLong || r.Err() != api.OK || r.Uint() != 1 || r.End() != api.OK {
		t.Error("End")
	}
	r.Fail(api.ErrKind)
	if r.Err() != api.ErrKind || r.End() != api.ErrKind {
		t.Error("Fail")
	}
}

func readString(r *codec.Reader) string { return r.String() }

// P8.1 P8.4 P8.5
func TestSlices(t *testing.T) {
	l := []string{"a", "", "bcd"}
	b := written(func(w *codec.Writer) {
		codec.WriteSlice(w, l, func(w *codec.Writer, s string) { w.String(s) })
	})
	if !bytes.Equal(b, []byte{3, 1, 'a', 0, 3, 'b', 'c', 'd'}) {
		t.Error(b)
	}
	r := codec.NewReader(append(b, 4))
	if got := codec.ReadSlice(r, 3, readString); !slices.Equal(got, l) {
		t.Error(got)
	}
	state(t, r, len(b), 1, api.OK)
	for n := range b {
		r := codec.NewReader(b[:n])
		if len(codec.ReadSlice(r, 3, readString)) != 0 || r.Err() != api.ErrTruncated {
			t.Error("prefix", n)
		}
	}
	if b := written(func(w *codec.Writer) { codec.WriteSlice[string](w, l, nil) }); !bytes.Equal(b, []byte{3}) {
		t.Error("nil function", b)
	}
	if b := written(func(w *codec.Writer) { codec.WriteSlice(w, nil, func(w *codec.Writer, s string) { w.String(s) }) }); !bytes.Equal(b, []byte{0}) {
		t.Error("empty slice", b)
	}
}

// P8.4
func TestReadSliceErrors(t *testing.T) {
	large := append(base128(codec.MaxLength+1), make([]byte, codec.MaxLength+2)...)
	calls := 0
	count := func(r *codec.Reader) bool { calls++; return r.Bool() }
	for _, x := range []struct {
		b         []byte
		max       int
		calls, at int
		e         api.Errno
	}{
		{[]byte{2, 1, 1}, 1, 0, 1, api.ErrLong}, {[]byte{0}, -1, 0, 1, api.ErrLong}, {[]byte{0x80, 0}, 9, 0, 1, api.ErrFormat},
		{large, math.MaxInt, 0, 1, api.ErrLong}, {append(base128(math.MaxUint64), 1), math.MaxInt, 0, 1, api.ErrLong},
		{[]byte{3, 1, 2, 1}, 3, 2, 3, api.ErrFormat}, {[]byte{3, 1, 0}, 3, 3, 4, api.ErrTruncated}, {nil, 3, 0, 1, api.ErrTruncated},
	} {
		calls = 0
		r := codec.NewReader(append([]byte{1}, x.b...))
		r.Bool()
		if l := codec.ReadSlice(r, x.max, count); len(l) != 0 || calls != x.calls {
			t.Error("ReadSlice", x.e, len(l), calls)
		}
		state(t, r, x.at, len(x.b)+1-x.at, x.e)
	}
	r := codec.NewReader([]byte{1, 1})
	codec.ReadSlice[bool](r, 1, nil)
	state(t, r, 0, 2, api.ErrArgument)
	r = codec.NewReader([]byte{2, 1})
	codec.ReadSlice[bool](r, 1, nil)
	state(t, r, 0, 2, api.ErrLong)
	r = codec.NewReader([]byte{1, 1})
	r.Fail(api.ErrKind)
	calls = 0
	if len(codec.ReadSlice(r, 1, count)) != 0 || calls != 0 {
		t.Error("ReadSlice after an error")
	}
	state(t, r, 0, 2, api.ErrKind)
	if len(codec.ReadSlice(nil, 1, count)) != 0 || calls != 0 {
		t.Error("ReadSlice of a nil reader")
	}
	r = codec.NewReader([]byte{2, 1, 1})
	if len(codec.ReadSlice(r, 2, func(r *codec.Reader) bool { r.Fail(api.ErrKind); return true })) != 0 || r.Err() != api.ErrKind {
		t.Error("failing element")
	}
}

// P8.5
func TestMemory(t *testing.T) {
	w := codec.NewWriter()
	blob := []byte{1, 2}
	w.Blob(blob)
	blob[0] = 9
	b := w.Bytes()
	b[0] = 9
	if !bytes.Equal(w.Bytes(), []byte{2, 1, 2}) || w.Len() != 3 {
		t.Error("writer shares memory")
	}
	in := []byte{2, 5, 6, 2, 7, 8}
	r := codec.NewReader(in)
	in[1], in[4] = 9, 9
	x := r.Blob()
	x[0] = 0
	if y := r.Blob(); !bytes.Equal(y, []byte{7, 8}) || !bytes.Equal(x, []byte{0, 6}) {
		t.Error("reader shares memory")
	}
	if codec.MaxLength != 1<<20 {
		t.Error("MaxLength")
	}
}

// Types of the chapter
func TestNilAndZero(t *testing.T) {
	var w *codec.Writer
	w.Uint(1)
	w.Int(1)
	w.Bool(true)
	w.String("x")
	w.Blob([]byte{1})
	codec.WriteSlice(w, []bool{true}, func(w *codec.Writer, x bool) { w.Bool(x) })
	if len(w.Bytes()) != 0 || w.Len() != 0 {
		t.Error("nil writer")
	}
	var r *codec.Reader
	r.Fail(api.ErrKind)
	if r.Uint() != 0 || r.Int() != 0 || r.Bool() || r.String() != "" || len(r.Blob()) != 0 || r.Offset() != 0 || r.Rest() != 0 {
		t.Error("nil reader")
	}
	if r.Err() != api.ErrArgument || r.End() != api.ErrArgument {
		t.Error("errors of a nil reader")
	}
	var zw codec.Writer
	zw.Uint(5)
	if !bytes.Equal(zw.Bytes(), []byte{5}) || zw.Len() != 1 {
		t.Error("zero writer")
	}
	var zr codec.Reader
	if zr.End() != api.OK || zr.Uint() != 0 || zr.Err() != api.ErrTruncated {
		t.Error("zero reader")
	}
}

// Example 1
func TestExample(t *testing.T) {
	b := written(func(w *codec.Writer) { w.Uint(300); w.Int(-3); w.String("ab") })
	if !bytes.Equal(b, []byte{0xac, 2, 5, 2, 0x61, 0x62}) {
		t.Error(b)
	}
}
