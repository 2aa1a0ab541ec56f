package queue_test

import (
	"math"
	"slices"
	"sort"
	"strconv"
	"strings"
	"testing"

	"giro/api"
	"giro/queue"
)

type key = queue.Key

func order[T any](q *queue.Queue[T]) []string {
	var l []string
	for id := range q.All() {
		l = append(l, id)
	}
	return l
}

func add(t *testing.T, q *queue.Queue[int], id string, priority, seq, v int, want api.Errno) {
	t.Helper()
	before := order(q)
	if e := q.Add(id, key{priority, seq}, v); e != want {
		t.Errorf("Add(%q, %d, %d) = %d, want %d", id, priority, seq, e, want)
	}
	if want != api.OK && !slices.Equal(order(q), before) {
		t.Error("a refused item is added")
	}
}

// P26.1
func TestCompare(t *testing.T) {
	l := []key{{math.MaxInt, 5}, {2, 0}, {2, 9}, {1, 1}, {0, 3}, {0, 4}, {-1, math.MinInt}}
	for i, a := range l {
		for j, b := range l {
			want := 0
			if i < j {
				want = -1
			} else if i > j {
				want = 1
			}
			if queue.Compare(a, b) != want {
				t.Error("Compare", a, b)
			}
		}
	}
	q := queue.New[string]()
	if id, v, ok := q.First(); id != "" || v != "" || ok || q.Len() != 0 {
		t.Error("new queue")
	}
}

// P26.2
func TestAdd(t *testing.T) {
	q := queue.New[int]()
	long := strings.Repeat("x", 64)
	add(t, q, "", -1, -1, 0, api.ErrUnknown)
	add(t, q, long+"x", 0, 0, 0, api.ErrUnknown)
	add(t, q, long, 0, 7, 1, api.OK)
	add(t, q, "\xff", 2, math.MaxInt, 2, api.OK)
	add(t, q, long, 3, 1, 0, api.ErrRange)
	add(t, q, long, -1, 1, 0, api.ErrRange)
	add(t, q, long, 0, -1, 0, api.ErrRange)
	add(t, q, long, 0, 7, 0, api.ErrDuplicate)
	for priority := range 3 {
		add(t, q, "a", priority, 7, 0, api.ErrSequence)
	}
	add(t, q, "a", 1, 0, 3, api.OK)
	if !slices.Equal(order(q), []string{"\xff", "a", long}) {
		t.Error(order(q))
	}
}

// P26.2
func TestLimit(t *testing.T) {
	q := queue.New[int]()
	for n := range queue.MaxItems {
		if e := q.Add(strconv.Itoa(n), key{0, n}, n); e != api.OK {
			t.Fatal(n, e)
		}
	}
	if e := q.Add("x", key{0, queue.MaxItems}, 0); e != api.ErrLimit {
		t.Error(e)
	}
	if e := q.Add("x", key{0, 5}, 0); e != api.ErrSequence {
		t.Error(e)
	}
	q.Remove("77")
	if e := q.Add("x", key{0, 77}, 0); e != api.OK {
		t.Error(e)
	}
}

// P26.2 P26.3
func TestChanges(t *testing.T) {
	q := queue.New[int]()
	add(t, q, "a", 0, 1, 10, api.OK)
	add(t, q, "b", 0, 2, 20, api.OK)
	add(t, q, "c", 1, 3, 30, api.OK)
	if v, k, ok := q.Get("b"); v != 20 || k != (key{0, 2}) || !ok {
		t.Error("Get", v, k, ok)
	}
	if v, k, ok := q.Get("x"); v != 0 || k != (key{}) || ok {
		t.Error("Get", v, k, ok)
	}
	if e := q.Replace("b", 21); e != api.OK {
		t.Error("Replace", e)
	}
	if e := q.Replace("x", 1); e != api.ErrNotFound {
		t.Error("Replace", e)
	}
	if e := q.Promote("x", 9); e != api.ErrNotFound {
		t.Error("Promote", e)
	}
	for _, p := range []int{-1, 3} {
		if e := q.Promote("b", p); e != api.ErrRange {
			t.Error("Promote", e)
		}
	}
	for _, x := range []struct {
		id       string
		priority int
		want     []string
	}{{"b", 2, []string{"b", "c", "a"}}, {"a", 2, []string{"a", "b", "c"}}, {"b", 2, []string{"a", "b", "c"}}, {"a", 1, []string{"b", "a", "c"}}, {"b", 0, []string{"a", "c", "b"}}} {
		if e := q.Promote(x.id, x.priority); e != api.OK || !slices.Equal(order(q), x.want) {
			t.Error("Promote", x, e, order(q))
		}
	}
	if v, k, ok := q.Get("b"); v != 21 || k != (key{0, 2}) || !ok {
		t.Error("Get", v, k, ok)
	}
	for n, id := range []string{"a", "c", "b"} {
		if at, e := q.Position(id); at != n || e != api.OK {
			t.Error("Position", id, at, e)
		}
	}
	if at, e := q.Position("x"); at != 0 || e != api.ErrNotFound {
		t.Error("Position", at, e)
	}
	if id, v, ok := q.First(); id != "a" || v != 10 || !ok {
		t.Error("First", id, v, ok)
	}
	if v, e := q.Remove("a"); v != 10 || e != api.OK {
		t.Error("Remove", v, e)
	}
	if v, e := q.Remove("a"); v != 0 || e != api.ErrNotFound || q.Len() != 2 {
		t.Error("Remove", v, e)
	}
	add(t, q, "a", 2, 1, 5, api.OK)
	if id, _, _ := q.First(); id != "a" {
		t.Error("First", id)
	}
}

// P26.4
func TestIterators(t *testing.T) {
	q := queue.New[int]()
	for n := range 6 {
		add(t, q, strconv.Itoa(n), 0, n, n*n, api.OK)
	}
	var seen, asked []string
	for id, v := range q.Where(func(id string, v int) bool { asked = append(asked, id); return v%2 == 0 }) {
		seen = append(seen, id+":"+strconv.Itoa(v))
		q.Remove("4")
		q.Remove("3")
		q.Replace("2", 99)
		q.Promote("5", 2)
		q.Add("new", key{0, 100}, 0)
	}
	if !slices.Equal(seen, []string{"0:0", "2:4", "4:16"}) || !slices.Equal(asked, []string{"0", "1", "2", "3", "4", "5"}) {
		t.Error(seen, asked)
	}
	if !slices.Equal(order(q), []string{"5", "0", "1", "2", "new"}) {
		t.Error(order(q))
	}
	asked = nil
	for range q.Where(func(id string, v int) bool { asked = append(asked, id); return id == "0" }) {
		break
	}
	if !slices.Equal(asked, []string{"5", "0"}) {
		t.Error("items that are not reached are asked for", asked)
	}
	all := q.All()
	q.Remove("5")
	for id := range all {
		if id != "0" {
			t.Error("an iteration begins with the items that exist when it starts", id)
		}
		break
	}
	for range q.Where(nil) {
		t.Error("nil function")
	}
}

// P26.4
func TestAllWhileItemsChange(t *testing.T) {
	q := queue.New[int]()
	for n := range 4 {
		add(t, q, strconv.Itoa(n), 0, n, n*n, api.OK)
	}
	all := q.All()
	add(t, q, "late", 2, 50, 7, api.OK)
	var seen []string
	for id, v := range all {
		seen = append(seen, id+":"+strconv.Itoa(v))
		q.Remove("1")
		q.Replace("2", 99)
		q.Promote("3", 2)
		q.Add("new", key{0, 100}, 0)
	}
	if !slices.Equal(seen, []string{"late:7", "0:0", "1:1", "2:4", "3:9"}) {
		t.Error("an iteration is affected by changes", seen)
	}
	seen = nil
	for id := range all {
		seen = append(seen, id)
		if id == "late" {
			break
		}
	}
	if !slices.Equal(seen, []string{"3", "late"}) {
		t.Error("an iterator begins anew and stops with the consumer", seen)
	}
}

// P26.4
func TestWhereWhileItsFunctionChanges(t *testing.T) {
	q := queue.New[int]()
	for n := range 4 {
		add(t, q, strconv.Itoa(n), 0, n, n*n, api.OK)
	}
	var asked, seen []string
	for id, v := range q.Where(func(id string, v int) bool {
		asked = append(asked, id)
		q.Remove("1")
		q.Replace("2", 99)
		q.Promote("3", 2)
		q.Add("new", key{0, 100}, 0)
		return id != "0"
	}) {
		seen = append(seen, id+":"+strconv.Itoa(v))
	}
	if !slices.Equal(asked, []string{"0", "1", "2", "3"}) || !slices.Equal(seen, []string{"1:1", "2:4", "3:9"}) {
		t.Error("an iteration is affected by changes", asked, seen)
	}
	for range q.Where(func(string, int) bool { return false }) {
		t.Error("an item that is not accepted is yielded")
	}
}

// P26.5
func TestCloneAndNil(t *testing.T) {
	q := queue.New[int]()
	add(t, q, "a", 0, 1, 1, api.OK)
	add(t, q, "b", 0, 2, 2, api.OK)
	c := q.Clone()
	c.Promote("b", 1)
	c.Replace("a", 9)
	c.Remove("zz")
	add(t, c, "c", 0, 3, 3, api.OK)
	q.Remove("b")
	if v, _, _ := q.Get("a"); v != 1 || !slices.Equal(order(q), []string{"a"}) || !slices.Equal(order(c), []string{"b", "a", "c"}) {
		t.Error("copies depend on each other", v, order(q), order(c))
	}
	add(t, q, "d", 0, 2, 4, api.OK)
	var none *queue.Queue[int]
	_, e1 := none.Remove("a")
	at, e2 := none.Position("a")
	for _, e := range []api.Errno{none.Add("", key{}, 1), e1, e2, none.Replace("a", 1), none.Promote("a", 9)} {
		if e != api.ErrArgument {
			t.Error("nil", e)
		}
	}
	v, k, ok := none.Get("a")
	id, w, first := none.First()
	if at != 0 || v != 0 || k != (key{}) || ok || id != "" || w != 0 || first || none.Len() != 0 || none.Clone() != nil || len(order(none)) != 0 {
		t.Error("nil queue")
	}
	for range none.Where(func(string, int) bool { return true }) {
		t.Error("nil queue has items")
	}
	for range none.Where(nil) {
		t.Error("nil queue has items")
	}
}

// P26.6
func TestRandom(t *testing.T) {
	q := queue.New[int]()
	model := map[string]key{}
	seed := uint64(5)
	next := func(n uint64) int { seed = seed*6364136223846793005 + 1442695040888963407; return int(seed >> 33 % n) }
	for n := range 2000 {
		id := strconv.Itoa(next(80))
		switch next(3) {
		case 0:
			if q.Add(id, key{next(3), n}, n) == api.OK {
				_, k, _ := q.Get(id)
				model[id] = k
			}
		case 1:
			q.Remove(id)
			delete(model, id)
		case 2:
			if k, ok := model[id]; ok {
				p := next(3)
				q.Promote(id, p)
				model[id] = key{p, k.Seq}
			}
		}
		var want []string
		for id := range model {
			want = append(want, id)
		}
		sort.Slice(want, func(i, j int) bool {
			a, b := model[want[i]], model[want[j]]
			return a.Priority > b.Priority || a.Priority == b.Priority && a.Seq < b.Seq
		})
		if !slices.Equal(order(q), want) || q.Len() != len(want) {
			t.Fatal("step", n)
		}
	}
}

// Example 1
func TestExample(t *testing.T) {
	q := queue.New[int]()
	add(t, q, "a", 0, 1, 0, api.OK)
	add(t, q, "b", 0, 2, 0, api.OK)
	add(t, q, "c", 2, 3, 0, api.OK)
	first := order(q)
	q.Promote("b", 2)
	if !slices.Equal(first, []string{"c", "a", "b"}) || !slices.Equal(order(q), []string{"b", "c", "a"}) {
		t.Error(first, order(q))
	}
}
