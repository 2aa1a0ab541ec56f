package sha256_test

import (
	"bytes"
	std "crypto/sha256"
	"encoding/binary"
	"encoding/hex"
	"math"
	"math/big"
	"strings"
	"testing"

	"giro/api"
	"giro/sha256"
)

// message returns n bytes without a short period.
func message(n int) []byte {
	b := make([]byte, n)
	for i := range b {
		b[i] = byte(i*7 + i/256*13 + i>>3)
	}
	return b
}

// P6.1
func TestSum(t *testing.T) {
	for n := range 400 {
		b := message(n)
		if sha256.Sum(b) != std.Sum256(b) {
			t.Error("length", n)
		}
		if !bytes.Equal(b, message(n)) {
			t.Error("argument modified")
		}
	}
	big := message(100000)
	if sha256.Sum(big) != std.Sum256(big) {
		t.Error("long message")
	}
	if sha256.Size != 32 || sha256.BlockSize != 64 {
		t.Error("constants")
	}
}

// P6.1
func TestPad(t *testing.T) {
	for _, n := range []int{0, 1, 54, 55, 56, 57, 63, 64, 65, 119, 120, 121, 1 << 20, 1<<56 - 1, 1 << 56} {
		p, e := sha256.Pad(n)
		if e != api.OK || p[0] != 128 || len(p) < 9 || len(p) > 72 || (n+len(p))%64 != 0 {
			t.Fatal("Pad", n, len(p), e)
		}
		if bytes.Count(p[1:len(p)-8], []byte{0}) != len(p)-9 || binary.BigEndian.Uint64(p[len(p)-8:]) != uint64(n)*8 {
			t.Error("Pad", n, p)
		}
	}
	for _, n := range []int{-1, math.MinInt, 1<<56 + 1, math.MaxInt} {
		if p, e := sha256.Pad(n); len(p) != 0 || e != api.ErrRange {
			t.Error("Pad", n, p, e)
		}
	}
}

// root returns the first 32 bits of the fractional part of the k-th root of p.
func root(p int64, k int64) uint32 {
	// The largest x with x^k <= p * 2^(32k).
	bound := new(big.Int).Lsh(big.NewInt(p), uint(32*k))
	x := new(big.Int)
	for bit := 40; bit >= 0; bit-- {
		y := new(big.Int).SetBit(x, bit, 1)
		if new(big.Int).Exp(y, big.NewInt(k), nil).Cmp(bound) <= 0 {
			x = y
		}
	}
	return uint32(x.Uint64())
}

// compress is the compression function by the chapter's words, with constants that are computed.
func compress(s [8]uint32, block [64]byte) [8]uint32 {
	rotr := func(x uint32, n uint) uint32 { return x>>n | x<<(32-n) }
	var w [64]uint32
	for i := range 16 {
		w[i] = binary.BigEndian.Uint32(block[4*i:])
	}
	for i := 16; i < 64; i++ {
		x, y := w[i-2], w[i-15]
		w[i] = (rotr(x, 17) ^ rotr(x, 19) ^ x>>10) + w[i-7] + (rotr(y, 7) ^ rotr(y, 18) ^ y>>3) + w[i-16]
	}
	v := s
	p := int64(1)
	for i := range 64 {
		for p++; !big.NewInt(p).ProbablyPrime(10); p++ {
		}
		a, b, c, e, f, g := v[0], v[1], v[2], v[4], v[5], v[6]
		t1 := v[7] + (rotr(e, 6) ^ rotr(e, 11) ^ rotr(e, 25)) + ((e & f) ^ (^e & g)) + root(p, 3) + w[i]
		t2 := (rotr(a, 2) ^ rotr(a, 13) ^ rotr(a, 22)) + ((a & b) ^ (a & c) ^ (b & c))
		v = [8]uint32{t1 + t2, a, b, c, v[3] + t1, e, f, g}
	}
	for i := range s {
		s[i] += v[i]
	}
	return s
}

// P6.1
func TestCompress(t *testing.T) {
	var state [8]uint32
	var block [64]byte
	for n := range 8 {
		for i := range block {
			block[i] ^= byte(n*31 + i*i)
		}
		want := compress(state, block)
		if got := sha256.Compress(state, block); got != want {
			t.Error("Compress", n)
		}
		state = want
	}
}

// P6.2 P6.4
func TestHash(t *testing.T) {
	b := message(300)
	for part := 1; part < 140; part++ {
		h := sha256.New()
		for i := 0; i < len(b); i += part {
			piece := bytes.Clone(b[i:min(i+part, len(b))])
			if e := h.Write(piece); e != api.OK {
				t.Fatal(e)
			}
			clear(piece)
			end := min(i+part, len(b))
			if h.Sum() != std.Sum256(b[:end]) || h.Len() != end {
				t.Fatal("part", part, "at", i)
			}
		}
	}
	h := sha256.New()
	if h.Len() != 0 || h.Write(nil) != api.OK || h.Sum() != std.Sum256(nil) {
		t.Error("empty hash")
	}
}

// P6.2
func TestClone(t *testing.T) {
	b := message(200)
	h := sha256.New()
	h.Write(b[:100])
	c := h.Clone()
	h.Write(b[100:150])
	c.Write(b[150:])
	if h.Sum() != std.Sum256(b[:150]) || h.Len() != 150 {
		t.Error("original")
	}
	if c.Sum() != std.Sum256(append(bytes.Clone(b[:100]), b[150:]...)) || c.Len() != 150 {
		t.Error("clone")
	}
	var none *sha256.Hash
	if none.Write(b) != api.ErrArgument || none.Sum() != (sha256.Digest{}) || none.Len() != 0 || none.Clone() != nil {
		t.Error("nil hash")
	}
}

// P6.3
func TestText(t *testing.T) {
	for n := range 20 {
		d := sha256.Sum(message(n))
		s := d.String()
		if s != hex.EncodeToString(d[:]) {
			t.Error("String", s)
		}
		if p, e := sha256.Parse(s); p != d || e != api.OK {
			t.Error("Parse", s, e)
		}
	}
	zeros := strings.Repeat("0", 62)
	for _, x := range []struct {
		s string
		e api.Errno
	}{
		{"", api.ErrShort}, {zeros + "x", api.ErrShort}, {zeros + "000", api.ErrLong}, {zeros + "xxx", api.ErrLong},
		{zeros + "0A", api.ErrFormat}, {zeros + "0g", api.ErrFormat}, {zeros + "0`", api.ErrFormat}, {zeros + "0/", api.ErrFormat},
		{zeros + "0:", api.ErrFormat}, {"-" + zeros + "0", api.ErrFormat}, {zeros + "\xff0", api.ErrFormat},
	} {
		if d, e := sha256.Parse(x.s); d != (sha256.Digest{}) || e != x.e {
			t.Errorf("Parse(%q) = %v, %d, want %d", x.s, d, e, x.e)
		}
	}
}

// Example 1
func TestExamples(t *testing.T) {
	if sha256.Sum(nil).String() != "e3b0c44298fc1c149afbf4c8996fb92427ae41e4649b934ca495991b7852b855" {
		t.Error("empty message")
	}
	if sha256.Sum([]byte("abc")).String() != "ba7816bf8f01cfea414140de5dae2223b00361a396177a9cb410ff61f20015ad" {
		t.Error("abc")
	}
}
