package merkle_test

import (
	"bytes"
	std "crypto/sha256"
	"math/bits"
	"slices"
	"strconv"
	"testing"

	"giro/api"
	"giro/merkle"
)

type hash = merkle.Hash

func leafHash(d []byte) hash { return std.Sum256(append([]byte{0}, d...)) }

func nodeHash(l, r hash) hash { return std.Sum256(slices.Concat([]byte{1}, l[:], r[:])) }

// half returns the greatest power of two less than n.
func half(n int) int {
	k := 1
	for 2*k < n {
		k *= 2
	}
	return k
}

// root, proof and subproof follow the words of the chapter.
func root(l [][]byte) hash {
	switch len(l) {
	case 0:
		return std.Sum256(nil)
	case 1:
		return leafHash(l[0])
	}
	k := half(len(l))
	return nodeHash(root(l[:k]), root(l[k:]))
}

func proof(l [][]byte, i int) []hash {
	if len(l) == 1 {
		return nil
	}
	k := half(len(l))
	if i < k {
		return append(proof(l[:k], i), root(l[k:]))
	}
	return append(proof(l[k:], i-k), root(l[:k]))
}

func subproof(l [][]byte, m int, b bool) []hash {
	if m == len(l) && b {
		return nil
	}
	if m == len(l) {
		return []hash{root(l)}
	}
	k := half(len(l))
	if m <= k {
		return append(subproof(l[:k], m, b), root(l[k:]))
	}
	return append(subproof(l[k:], m-k, false), root(l[:k]))
}

func list(n int) [][]byte {
	l := make([][]byte, n)
	for i := range l {
		l[i] = []byte("leaf " + strconv.Itoa(i))
	}
	return l
}

// flips returns a proof with each of its hashes altered in turn.
func flips(p []hash) [][]hash {
	var all [][]hash
	for i := range p {
		c := slices.Clone(p)
		c[i][7] ^= 16
		all = append(all, c)
	}
	return all
}

// P7.1
func TestRoot(t *testing.T) {
	for n := range 70 {
		l := list(n)
		if r, e := merkle.Root(l); r != root(l) || e != api.OK {
			t.Error("Root", n, e)
		}
	}
	if merkle.LeafHash([]byte("x")) != leafHash([]byte("x")) || merkle.LeafHash(nil) != leafHash(nil) {
		t.Error("LeafHash")
	}
	a, b := leafHash([]byte("a")), leafHash([]byte("b"))
	if merkle.NodeHash(a, b) != nodeHash(a, b) {
		t.Error("NodeHash")
	}
	if r, e := merkle.Root(make([][]byte, merkle.MaxLeaves+1)); r != (hash{}) || e != api.ErrLimit {
		t.Error("too many leaves", e)
	}
	if _, e := merkle.Root(make([][]byte, merkle.MaxLeaves)); e != api.OK {
		t.Error("most leaves", e)
	}
}

// P7.2 P7.3 P7.7
func TestInclusion(t *testing.T) {
	for n := 1; n < 34; n++ {
		l := list(n)
		r := root(l)
		for i := range n {
			p, e := merkle.Prove(l, i)
			if !slices.Equal(p, proof(l, i)) || e != api.OK {
				t.Fatal("Prove", n, i, e)
			}
			if len(p) > bits.Len(uint(n-1)) || merkle.Verify(r, n, i, l[i], p) != api.OK {
				t.Error("Verify", n, i)
			}
			if merkle.Verify(r, n, i, []byte("other"), p) != api.ErrProof {
				t.Error("another leaf", n, i)
			}
			for _, q := range flips(p) {
				if merkle.Verify(r, n, i, l[i], q) != api.ErrProof {
					t.Error("altered proof", n, i)
				}
			}
			if merkle.Verify(r, n, i, l[i], append(p, r)) != api.ErrFormat {
				t.Error("longer proof", n, i)
			}
			if len(p) > 0 && merkle.Verify(r, n, i, l[i], p[1:]) != api.ErrFormat {
				t.Error("shorter proof", n, i)
			}
			for j := range n {
				if j != i && len(proof(l, j)) == len(p) && merkle.Verify(r, n, j, l[i], p) != api.ErrProof {
					t.Error("another index", n, i, j)
				}
			}
		}
	}
}

// P7.2 P7.3
func TestInclusionErrors(t *testing.T) {
	l := list(5)
	many := make([][]byte, merkle.MaxLeaves+1)
	for _, x := range []struct {
		l [][]byte
		i int
		e api.Errno
	}{{l, -1, api.ErrRange}, {l, 5, api.ErrRange}, {nil, 0, api.ErrRange}, {many, 0, api.ErrLimit}, {many, -1, api.ErrLimit}} {
		if p, e := merkle.Prove(x.l, x.i); len(p) != 0 || e != x.e {
			t.Error("Prove", len(x.l), x.i, e)
		}
	}
	for _, x := range []struct{ size, index int }{{0, 0}, {-1, 0}, {merkle.MaxLeaves + 1, 0}, {5, 5}, {5, -1}} {
		if e := merkle.Verify(root(l), x.size, x.index, nil, make([]hash, 9)); e != api.ErrRange {
			t.Error("Verify", x, e)
		}
	}
	if e := merkle.Verify(hash{}, merkle.MaxLeaves, 0, nil, make([]hash, 16)); e != api.ErrProof {
		t.Error("largest tree", e)
	}
	if e := merkle.Verify(leafHash([]byte("a")), 1, 0, []byte("a"), nil); e != api.OK {
		t.Error("one leaf", e)
	}
}

// P7.4 P7.7
func TestConsistency(t *testing.T) {
	for n := range 34 {
		l := list(n)
		for m := range n + 1 {
			var want []hash
			if m > 0 {
				want = subproof(l, m, true)
			}
			p, e := merkle.ProveConsistency(l, m)
			if !slices.Equal(p, want) || e != api.OK {
				t.Fatal("ProveConsistency", n, m, e)
			}
			a, b := root(l[:m]), root(l)
			verify := func(a, b hash, p []hash, want api.Errno) {
				t.Helper()
				if e := merkle.VerifyConsistency(a, b, m, n, p); e != want {
					t.Error("VerifyConsistency", n, m, e, "want", want)
				}
			}
			verify(a, b, p, api.OK)
			verify(hash{1}, b, p, api.ErrProof)
			if m > 0 || n == 0 {
				verify(a, hash{1}, p, api.ErrProof)
			} else {
				verify(a, hash{1}, p, api.OK)
			}
			verify(a, b, append(slices.Clone(p), a), api.ErrFormat)
			if len(p) > 0 {
				verify(a, b, p[1:], api.ErrFormat)
			}
			for _, q := range flips(p) {
				verify(a, b, q, api.ErrProof)
			}
		}
	}
}

// P7.4
func TestConsistencyErrors(t *testing.T) {
	many := make([][]byte, merkle.MaxLeaves+1)
	for _, x := range []struct {
		l   [][]byte
		old int
		e   api.Errno
	}{{list(5), -1, api.ErrRange}, {list(5), 6, api.ErrRange}, {many, -1, api.ErrLimit}} {
		if p, e := merkle.ProveConsistency(x.l, x.old); len(p) != 0 || e != x.e {
			t.Error("ProveConsistency", len(x.l), x.old, e)
		}
	}
	for _, x := range []struct{ old, size int }{{0, -1}, {0, merkle.MaxLeaves + 1}, {-1, 5}, {6, 5}} {
		if e := merkle.VerifyConsistency(hash{}, hash{}, x.old, x.size, make([]hash, 40)); e != api.ErrRange {
			t.Error("VerifyConsistency", x, e)
		}
	}
}

// P7.5: an input with a collision cannot be found, so that only the errors can be tested.
func TestCollisionErrors(t *testing.T) {
	l := list(5)
	r := root(l)
	p := proof(l, 2)
	check := func(size, index int, a []byte, pa []hash, b []byte, pb []hash, want api.Errno) {
		t.Helper()
		x, y, e := merkle.Collision(r, size, index, a, pa, b, pb)
		if len(x) != 0 || len(y) != 0 || e != want {
			t.Error("Collision", x, y, e, "want", want)
		}
	}
	check(5, 2, l[2], p, l[2], p, api.ErrArgument)
	check(5, 2, l[2], p, l[1], p, api.ErrProof)
	check(5, 2, l[2], p, l[2], flips(p)[0], api.ErrProof)
	check(5, 2, l[2], p, l[2], p[1:], api.ErrFormat)
	check(5, 2, l[2], p[1:], l[1], p, api.ErrFormat)
	check(5, 2, l[1], p, l[1], p[1:], api.ErrProof)
	check(5, 5, l[1], p, l[1], p[1:], api.ErrRange)
}

// P7.6
func TestTree(t *testing.T) {
	tree := merkle.New()
	l := list(300)
	for n := range l {
		if tree.Len() != n || tree.Root() != root(l[:n]) {
			t.Fatal("tree of", n)
		}
		c := tree.Clone()
		leaf := bytes.Clone(l[n])
		if tree.Append(leaf) != api.OK {
			t.Fatal("Append")
		}
		leaf[0]++
		if c.Len() != n || c.Root() != root(l[:n]) || c.Equal(tree) || tree.Equal(c) {
			t.Fatal("clone of", n)
		}
		c.Append([]byte("other"))
		if c.Equal(tree) || tree.Root() != root(l[:n+1]) {
			t.Fatal("clone changed the tree")
		}
	}
	other := merkle.New()
	for _, d := range l {
		other.Append(d)
	}
	if !other.Equal(tree) {
		t.Error("Equal")
	}
}

// P7.6
func TestTreeLimit(t *testing.T) {
	tree := merkle.New()
	for i := range merkle.MaxLeaves {
		if e := tree.Append(nil); e != api.OK {
			t.Fatal(i, e)
		}
	}
	r := tree.Root()
	want, _ := merkle.Root(make([][]byte, merkle.MaxLeaves))
	if e := tree.Append(nil); e != api.ErrLimit || tree.Len() != merkle.MaxLeaves || tree.Root() != r || r != want {
		t.Error("limit", e, tree.Len())
	}
	var none *merkle.Tree
	if none.Append(nil) != api.ErrArgument || none.Len() != 0 || none.Root() != (hash{}) || none.Clone() != nil || !none.Equal(nil) || none.Equal(tree) || tree.Equal(nil) {
		t.Error("nil tree")
	}
}

// P7.8
func TestArguments(t *testing.T) {
	l := list(6)
	p, _ := merkle.Prove(l, 3)
	q, _ := merkle.ProveConsistency(l, 3)
	pc, qc := slices.Clone(p), slices.Clone(q)
	merkle.Verify(root(l), 6, 3, l[3], p)
	merkle.VerifyConsistency(root(l[:3]), root(l), 3, 6, q)
	if !slices.Equal(p, pc) || !slices.Equal(q, qc) || root(l) != root(list(6)) {
		t.Error("arguments modified")
	}
}

// Example 1
func TestExample(t *testing.T) {
	l := [][]byte{[]byte("a"), []byte("b"), []byte("c")}
	ab := merkle.NodeHash(merkle.LeafHash(l[0]), merkle.LeafHash(l[1]))
	r, _ := merkle.Root(l)
	p, _ := merkle.Prove(l, 2)
	q, _ := merkle.ProveConsistency(l, 2)
	if r != merkle.NodeHash(ab, merkle.LeafHash(l[2])) || !slices.Equal(p, []hash{ab}) || !slices.Equal(q, []hash{merkle.LeafHash(l[2])}) {
		t.Error("example")
	}
	if merkle.New().Root().String() != "e3b0c44298fc1c149afbf4c8996fb92427ae41e4649b934ca495991b7852b855" {
		t.Error("empty tree")
	}
}
