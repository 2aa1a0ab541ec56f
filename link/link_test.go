package link_test

import (
	"slices"
	"sort"
	"strconv"
	"strings"
	"testing"

	"giro/api"
	"giro/link"
	"giro/message"
)

const (
	with  = message.With
	after = message.After
)

type edge struct {
	from string
	kind int
	to   string
}

// set returns a set with references, one for each byte, and links.
func set(t *testing.T, refs string, links ...edge) *link.Set {
	t.Helper()
	s := link.New()
	for _, r := range strings.Split(refs, "") {
		want(t, "Add "+r, s.Add(r), api.OK)
	}
	for _, l := range links {
		want(t, "Link", s.Link(l.from, message.Link{Type: l.kind, Ref: l.to}), api.OK)
	}
	return s
}

func want(t *testing.T, what string, got, e api.Errno) {
	t.Helper()
	if got != e {
		t.Errorf("%s: error %d, want %d", what, got, e)
	}
}

// refused checks that an operation is refused and changes nothing.
func refused(t *testing.T, s *link.Set, what string, e api.Errno, f func() api.Errno) {
	t.Helper()
	before := s.Clone()
	want(t, what, f(), e)
	if !s.Equal(before) {
		t.Error(what, "changes the set")
	}
}

func text(l []string) string { return strings.Join(l, "") }

func groups(s *link.Set) string {
	var b strings.Builder
	for _, g := range s.Groups() {
		b.WriteString(text(g.Members))
		for _, a := range g.After {
			b.WriteString(" " + strconv.Itoa(a))
		}
		b.WriteString(";")
	}
	return b.String()
}

// P27.1
func TestAddRemove(t *testing.T) {
	s := set(t, "b")
	long := strings.Repeat("x", 64)
	refused(t, s, "empty", api.ErrUnknown, func() api.Errno { return s.Add("") })
	refused(t, s, "long", api.ErrUnknown, func() api.Errno { return s.Add(long + "x") })
	refused(t, s, "again", api.ErrDuplicate, func() api.Errno { return s.Add("b") })
	want(t, "longest", s.Add(long), api.OK)
	refused(t, s, "Remove", api.ErrNotFound, func() api.Errno { return s.Remove("c") })
	want(t, "Remove", s.Remove(long), api.OK)
	if s.Has(long) || !s.Has("b") || s.Has("") || s.Len() != 1 {
		t.Error("Has")
	}
	s = set(t, "abc", edge{"a", with, "b"}, edge{"b", after, "c"}, edge{"c", with, "a"})
	want(t, "Remove", s.Remove("a"), api.OK)
	if !slices.Equal(s.Links("b"), []message.Link{{Type: after, Ref: "c"}}) || len(s.Links("c")) != 0 || s.Len() != 2 {
		t.Error("links", s.Links("b"), s.Links("c"))
	}
	// Without a, which holds b and c together, b and d depend on each other through c.
	s = set(t, "abcd", edge{"a", with, "b"}, edge{"a", with, "c"}, edge{"b", after, "c"}, edge{"c", after, "b"})
	refused(t, s, "cycle", api.ErrCycle, func() api.Errno { return s.Remove("a") })
	want(t, "d", s.Remove("d"), api.OK)
	want(t, "b", s.Remove("b"), api.OK)
	want(t, "a", s.Remove("a"), api.OK)
	many := link.New()
	for n := range link.MaxMembers {
		if e := many.Add(strconv.Itoa(n)); e != api.OK {
			t.Fatal(e)
		}
	}
	want(t, "limit", many.Add("x"), api.ErrLimit)
	want(t, "duplicate first", many.Add("5"), api.ErrDuplicate)
}

// P27.2
func TestLink(t *testing.T) {
	s := set(t, "abc", edge{"a", with, "b"})
	l := func(from string, kind int, to string) func() api.Errno {
		return func() api.Errno { return s.Link(from, message.Link{Type: kind, Ref: to}) }
	}
	refused(t, s, "kind", api.ErrKind, l("x", 2, "x"))
	refused(t, s, "kind", api.ErrKind, l("x", -1, "x"))
	refused(t, s, "from", api.ErrNotFound, l("x", with, "a"))
	refused(t, s, "to", api.ErrNotFound, l("a", with, "x"))
	refused(t, s, "itself", api.ErrNotFound, l("x", with, "x"))
	refused(t, s, "itself", api.ErrCycle, l("a", with, "a"))
	refused(t, s, "again", api.ErrDuplicate, l("a", with, "b"))
	want(t, "other direction", l("b", with, "a")(), api.OK)
	want(t, "other type", l("a", after, "b")(), api.OK)
	want(t, "c after a", l("c", after, "a")(), api.OK)
	refused(t, s, "cycle", api.ErrCycle, l("b", after, "c"))
	want(t, "same group", l("c", with, "b")(), api.OK)
	want(t, "within a group", l("b", after, "c")(), api.OK)
	refused(t, s, "not there", api.ErrNotFound, func() api.Errno { return s.Unlink("c", message.Link{Type: with, Ref: "a"}) })
	refused(t, s, "not there", api.ErrNotFound, func() api.Errno { return s.Unlink("x", message.Link{Type: 9, Ref: "a"}) })
	refused(t, s, "held together", api.ErrCycle, func() api.Errno { return s.Unlink("c", message.Link{Type: with, Ref: "b"}) })
	want(t, "Unlink", s.Unlink("b", message.Link{Type: after, Ref: "c"}), api.OK)
	want(t, "Unlink", s.Unlink("c", message.Link{Type: with, Ref: "b"}), api.OK)
	want(t, "Unlink", s.Unlink("b", message.Link{Type: with, Ref: "a"}), api.OK)
	if text(s.Group("a")) != "ab" || !slices.Equal(s.Links("a"), []message.Link{{Type: with, Ref: "b"}, {Type: after, Ref: "b"}}) {
		t.Error("one of two links was removed", s.Group("a"), s.Links("a"))
	}
	want(t, "b", s.Link("a", message.Link{Type: after, Ref: "c"}), api.ErrCycle)
	want(t, "x", s.Link("b", message.Link{Type: with, Ref: "c"}), api.OK)
	if !slices.Equal(s.Links("b"), []message.Link{{Type: with, Ref: "c"}}) || len(s.Links("x")) != 0 {
		t.Error(s.Links("b"))
	}
}

// P27.3 P27.4 P27.6
func TestGroups(t *testing.T) {
	for _, x := range []struct {
		refs  string
		links []edge
		want  string
	}{
		{"cab", nil, "a;b;c;"},
		{"abc", []edge{{"a", with, "c"}}, "ac;b;"},
		{"abcd", []edge{{"a", after, "d"}, {"b", with, "d"}}, "bd;a 0;c;"},
		{"abcde", []edge{{"a", after, "e"}, {"b", after, "a"}, {"b", after, "e"}, {"c", with, "e"}}, "ce;a 0;b 0 1;d;"},
		{"abcd", []edge{{"a", with, "b"}, {"a", after, "b"}, {"c", after, "a"}, {"c", after, "b"}, {"d", with, "c"}}, "ab;cd 0;"},
	} {
		s := set(t, x.refs, x.links...)
		if got := groups(s); got != x.want {
			t.Error("Groups", got, "want", x.want)
		}
		if s.Len() != len(x.refs) {
			t.Error("Len")
		}
	}
	s := set(t, "abcdef", edge{"a", with, "b"}, edge{"c", after, "a"}, edge{"d", after, "c"}, edge{"e", with, "d"}, edge{"f", after, "b"})
	for ref, x := range map[string][3]string{"a": {"ab", "ab", "abcdef"}, "b": {"ab", "ab", "abcdef"}, "c": {"c", "abc", "cde"}, "d": {"de", "abcde", "de"}, "e": {"de", "abcde", "de"}, "f": {"f", "abf", "f"}, "x": {"", "", ""}} {
		if text(s.Group(ref)) != x[0] || text(s.Before(ref)) != x[1] || text(s.Behind(ref)) != x[2] {
			t.Error(ref, s.Group(ref), s.Before(ref), s.Behind(ref))
		}
	}
}

// P27.4 P27.6: against the words of the chapter, with random links.
func TestRandom(t *testing.T) {
	seed := uint64(9)
	next := func(n uint64) int { seed = seed*6364136223846793005 + 1442695040888963407; return int(seed >> 33 % n) }
	refs := strings.Split("abcdefgh", "")
	for range 60 {
		s := set(t, "abcdefgh")
		for range 25 {
			from, l := refs[next(8)], message.Link{Type: next(3) / 2, Ref: refs[next(8)]}
			if next(5) == 0 {
				s.Unlink(from, l)
			} else {
				s.Link(from, l)
			}
		}
		list := s.Groups()
		number := map[string]int{}
		for n, g := range list {
			if !sort.StringsAreSorted(g.Members) {
				t.Error("members are not sorted")
			}
			for _, r := range g.Members {
				number[r] = n
			}
		}
		if len(number) != 8 {
			t.Fatal("not every reference is in one group")
		}
		for n, g := range list {
			want := map[int]bool{}
			for _, r := range g.Members {
				for _, l := range s.Links(r) {
					if l.Type == with && number[l.Ref] != n {
						t.Error("linked references are in different groups")
					}
					if number[l.Ref] != n {
						want[number[l.Ref]] = true
					}
				}
			}
			if len(want) != len(g.After) || !sort.IntsAreSorted(g.After) {
				t.Error("After", g.After, want)
			}
			for _, a := range g.After {
				if !want[a] || a >= n {
					t.Error("After", a, "of group", n)
				}
			}
			// Of two groups, the later one has the greater least member or waits for another one after the earlier one.
			if n > 0 && g.Members[0] < list[n-1].Members[0] && !slices.Contains(g.After, n-1) {
				t.Error("order of groups", list)
			}
		}
		for _, a := range refs {
			for _, b := range refs {
				if slices.Contains(s.Before(a), b) != slices.Contains(s.Behind(b), a) {
					t.Error("Before and Behind", a, b)
				}
			}
		}
	}
}

// P27.5 P27.7
func TestCloneAndNil(t *testing.T) {
	build := func() *link.Set { return set(t, "abc", edge{"a", with, "b"}, edge{"c", after, "a"}) }
	s := build()
	for name, change := range map[string]func(s *link.Set){
		"add": func(s *link.Set) { s.Add("d") }, "remove": func(s *link.Set) { s.Remove("c") }, "link": func(s *link.Set) { s.Link("a", message.Link{Type: after, Ref: "b"}) },
		"unlink": func(s *link.Set) { s.Unlink("a", message.Link{Type: with, Ref: "b"}) },
	} {
		c := s.Clone()
		if !c.Equal(s) || !s.Equal(build()) {
			t.Fatal("clone is not equal")
		}
		change(c)
		if c.Equal(s) || s.Equal(c) || !s.Equal(build()) {
			t.Error(name)
		}
	}
	s.Groups()[0].Members[0] = "?"
	s.Links("a")[0].Ref = "?"
	if !s.Equal(build()) || groups(s) != "ab;c 0;" {
		t.Error("memory is shared")
	}
	var none *link.Set
	for _, e := range []api.Errno{none.Add(""), none.Link("", message.Link{Type: 9}), none.Unlink("", message.Link{}), none.Remove("")} {
		want(t, "nil", e, api.ErrArgument)
	}
	if len(none.Links("a")) != 0 || none.Has("a") || none.Len() != 0 || len(none.Group("a")) != 0 || len(none.Before("a")) != 0 || len(none.Behind("a")) != 0 || len(none.Groups()) != 0 || none.Clone() != nil || !none.Equal(nil) || none.Equal(s) || s.Equal(nil) {
		t.Error("nil set")
	}
}

// Example 1
func TestExample(t *testing.T) {
	s := set(t, "abc", edge{"a", with, "b"}, edge{"c", after, "a"})
	if groups(s) != "ab;c 0;" || text(s.Before("c")) != "abc" {
		t.Error(groups(s), s.Before("c"))
	}
	want(t, "cycle", s.Link("b", message.Link{Type: after, Ref: "c"}), api.ErrCycle)
}
