package scc_test

import (
	"slices"
	"sort"
	"testing"

	"giro/api"
	"giro/scc"
)

type graph = scc.Graph

// random returns a graph with n nodes.
func random(seed uint64, n, edges int) graph {
	next := func(n int) int { seed = seed*6364136223846793005 + 1442695040888963407; return int(seed>>33) % n }
	g := make(graph, n)
	for range edges {
		from := next(n)
		g[from] = append(g[from], next(n))
	}
	return g
}

// closure tells which nodes are reachable from which.
func closure(g graph) [][]bool {
	r := make([][]bool, len(g))
	for i := range g {
		r[i] = make([]bool, len(g))
		r[i][i] = true
		for _, j := range g[i] {
			r[i][j] = true
		}
	}
	for k := range g {
		for i := range g {
			for j := range g {
				r[i][j] = r[i][j] || r[i][k] && r[k][j]
			}
		}
	}
	return r
}

// components follows the words of the chapter.
func components(g graph) [][]int {
	r := closure(g)
	number := make([]int, len(g))
	for i := range number {
		number[i] = -1
	}
	var l [][]int
	for {
		next := -1
		for i := range g {
			if number[i] >= 0 || next >= 0 {
				continue
			}
			ready := true
			for from := range g {
				if r[from][i] && !r[i][from] && number[from] < 0 {
					ready = false
				}
			}
			if ready {
				next = i
			}
		}
		if next < 0 {
			return l
		}
		var c []int
		for j := range g {
			if r[next][j] && r[j][next] {
				c = append(c, j)
				number[j] = len(l)
			}
		}
		l = append(l, c)
	}
}

// P31.1
func TestCheck(t *testing.T) {
	wide := make(graph, scc.MaxNodes)
	wide[5] = make([]int, scc.MaxEdges)
	over := make(graph, 2)
	over[0], over[1] = make([]int, scc.MaxEdges), []int{-1}
	for n, x := range []struct {
		g graph
		e api.Errno
	}{{nil, api.OK}, {graph{{}, nil, {0, 2, 2}}, api.OK}, {graph{{1}}, api.ErrRange}, {graph{{0}, {-1}}, api.ErrRange}, {wide, api.OK}, {make(graph, scc.MaxNodes+1), api.ErrLimit}, {over, api.ErrLimit}} {
		if e := scc.Check(x.g); e != x.e {
			t.Error("Check", n, e)
		}
		if x.e == api.OK {
			continue
		}
		a, e1 := scc.Components(x.g)
		b, e2 := scc.Condense(x.g)
		c, e3 := scc.TopologicalOrder(x.g)
		d, e4 := scc.Reachable(x.g, -1)
		f, ok, e5 := scc.Cycle(x.g)
		h, e6 := scc.Reverse(x.g)
		if len(a)+len(b)+len(c)+len(d)+len(f)+len(h) != 0 || ok {
			t.Error("results with an error", n)
		}
		for _, e := range []api.Errno{e1, e2, e3, e4, e5, e6} {
			if e != x.e {
				t.Error("error", n, e)
			}
		}
	}
}

// P31.2 P31.6
func TestComponents(t *testing.T) {
	for seed := range uint64(300) {
		n := 1 + int(seed%9)
		g := random(seed, n, int(seed%13))
		want := components(g)
		got, e := scc.Components(g)
		if !slices.EqualFunc(got, want, slices.Equal[[]int]) || e != api.OK {
			t.Fatal("Components", g, got, want)
		}
		number := map[int]int{}
		for k, c := range got {
			for _, i := range c {
				number[i] = k
			}
		}
		condensed := make(graph, len(got))
		for i := range g {
			for _, j := range g[i] {
				if a, b := number[i], number[j]; a != b && !slices.Contains(condensed[a], b) {
					condensed[a] = append(condensed[a], b)
				}
			}
		}
		for k := range condensed {
			slices.Sort(condensed[k])
			if len(condensed[k]) > 0 && condensed[k][0] <= k {
				t.Error("an edge of the condensation leads back")
			}
		}
		if c, e := scc.Condense(g); !slices.EqualFunc(c, condensed, slices.Equal[[]int]) || e != api.OK {
			t.Fatal("Condense", g, c, condensed)
		}
		r, _ := scc.Reverse(g)
		back, _ := scc.Components(r)
		byFirst := func(l [][]int) { sort.Slice(l, func(i, j int) bool { return l[i][0] < l[j][0] }) }
		byFirst(back)
		byFirst(got)
		if !slices.EqualFunc(back, got, slices.Equal[[]int]) {
			t.Error("components of the reversed graph", g)
		}
	}
}

// orders calls a function with every order of n nodes, in lexicographic order, until it returns true.
func orders(n int, used []int, f func(l []int) bool) bool {
	if len(used) == n {
		return f(used)
	}
	for i := range n {
		if !slices.Contains(used, i) && orders(n, append(slices.Clip(used), i), f) {
			return true
		}
	}
	return false
}

// P31.3
func TestTopologicalOrder(t *testing.T) {
	for seed := range uint64(200) {
		n := 1 + int(seed%6)
		g := random(seed, n, int(seed%5))
		var want []int
		orders(n, nil, func(l []int) bool {
			for i := range g {
				for _, j := range g[i] {
					if slices.Index(l, i) >= slices.Index(l, j) {
						return false
					}
				}
			}
			want = slices.Clone(l)
			return true
		})
		got, e := scc.TopologicalOrder(g)
		if want == nil && (len(got) != 0 || e != api.ErrCycle) || want != nil && (!slices.Equal(got, want) || e != api.OK) {
			t.Fatal("TopologicalOrder", g, got, e, want)
		}
	}
	if l, e := scc.TopologicalOrder(nil); len(l) != 0 || e != api.OK {
		t.Error("empty graph", l, e)
	}
	if l, e := scc.TopologicalOrder(graph{{0}}); len(l) != 0 || e != api.ErrCycle {
		t.Error("loop", l, e)
	}
}

// P31.4
func TestReachable(t *testing.T) {
	for seed := range uint64(100) {
		n := 2 + int(seed%8)
		g := random(seed, n, int(seed%11))
		r := closure(g)
		var one, two []int
		for j := range g {
			if r[0][j] {
				one = append(one, j)
			}
			if r[1][j] || r[n-1][j] {
				two = append(two, j)
			}
		}
		a, e1 := scc.Reachable(g, 0)
		b, e2 := scc.Reachable(g, n-1, 1, 1)
		none, e3 := scc.Reachable(g)
		if !slices.Equal(a, one) || !slices.Equal(b, two) || len(none) != 0 || e1 != api.OK || e2 != api.OK || e3 != api.OK {
			t.Error("Reachable", g, a, b, none)
		}
		for _, from := range []int{-1, n} {
			if l, e := scc.Reachable(g, 0, from); len(l) != 0 || e != api.ErrRange {
				t.Error("Reachable", from, l, e)
			}
		}
	}
}

// cycle returns the least of the shortest cycles by trying all paths.
func cycle(g graph) []int {
	for length := 1; length <= len(g); length++ {
		var extend func(path []int) []int
		extend = func(path []int) []int {
			last := path[len(path)-1]
			if len(path) == length {
				if slices.Contains(g[last], path[0]) {
					return path
				}
				return nil
			}
			for next := path[0] + 1; next < len(g); next++ {
				if slices.Contains(g[last], next) && !slices.Contains(path, next) {
					if c := extend(append(slices.Clip(path), next)); c != nil {
						return c
					}
				}
			}
			return nil
		}
		for start := range g {
			if c := extend([]int{start}); c != nil {
				return c
			}
		}
	}
	return nil
}

// P31.5
func TestCycle(t *testing.T) {
	for seed := range uint64(600) {
		n := 1 + int(seed%9)
		g := random(seed, n, int(seed%19))
		want := cycle(g)
		got, found, e := scc.Cycle(g)
		if !slices.Equal(got, want) || found != (want != nil) || e != api.OK {
			t.Fatal("Cycle", g, got, found, "want", want)
		}
	}
}

// P31.5
func TestReverse(t *testing.T) {
	g := graph{{2, 1, 2}, {0}, {2, 0}, nil}
	copied := graph{{2, 1, 2}, {0}, {2, 0}, nil}
	r, e := scc.Reverse(g)
	if !slices.EqualFunc(r, graph{{1, 2}, {0}, {0, 0, 2}, nil}, slices.Equal[[]int]) || e != api.OK {
		t.Error(r, e)
	}
	r[0][0] = 9
	if !slices.EqualFunc(g, copied, slices.Equal[[]int]) {
		t.Error("the argument was changed")
	}
}

// P31.6: long paths and long cycles.
func TestLong(t *testing.T) {
	path := make(graph, scc.MaxNodes)
	for i := range len(path) - 1 {
		path[i] = []int{i + 1}
	}
	if l, e := scc.Components(path); len(l) != len(path) || l[7][0] != 7 || e != api.OK {
		t.Error("path", len(l), e)
	}
	if l, e := scc.TopologicalOrder(path); len(l) != len(path) || e != api.OK {
		t.Error("path", len(l), e)
	}
	if c, found, e := scc.Cycle(path); len(c) != 0 || found || e != api.OK {
		t.Error("path", len(c), e)
	}
	path[len(path)-1] = []int{0}
	if l, e := scc.Components(path); len(l) != 1 || len(l[0]) != len(path) || e != api.OK {
		t.Error("circle", len(l), e)
	}
	if c, found, e := scc.Cycle(path); len(c) != len(path) || !found || e != api.OK {
		t.Error("circle", len(c), e)
	}
	if l, e := scc.Reachable(path, 99); len(l) != len(path) || e != api.OK {
		t.Error("circle", len(l), e)
	}
}

// Example 1
func TestExample(t *testing.T) {
	g := graph{{1}, {2}, {1, 3}, {}}
	l, _ := scc.Components(g)
	c, found, _ := scc.Cycle(g)
	if !slices.EqualFunc(l, [][]int{{0}, {1, 2}, {3}}, slices.Equal[[]int]) || !slices.Equal(c, []int{1, 2}) || !found {
		t.Error(l, c)
	}
}
