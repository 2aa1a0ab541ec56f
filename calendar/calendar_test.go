package calendar_test

import (
	"math"
	"slices"
	"testing"
	"time"

	"giro/api"
	"giro/calendar"
	"giro/date"
	"giro/fraction"
)

// timeOf returns the standard library's date of a day number.
func timeOf(n int) time.Time { return time.Date(2000, 1, 1+n, 0, 0, 0, 0, time.UTC) }

// dayOf returns the day number of a date.
func dayOf(y, m, d int) int {
	return int(time.Date(y, time.Month(m), d, 0, 0, 0, 0, time.UTC).Sub(timeOf(0)).Hours()) / 24
}

// plain decides from the definition whether a day is a business day.
func plain(weekend, holidays []int, d int) bool {
	weekday := (int(timeOf(d).Weekday()) + 6) % 7
	return !slices.Contains(weekend, weekday) && !slices.Contains(holidays, d)
}

func must(t *testing.T, weekend, holidays []int) *calendar.Calendar {
	t.Helper()
	c, e := calendar.New(weekend, holidays)
	if e != api.OK || c == nil {
		t.Fatalf("New(%v, %v) = %v, %d", weekend, holidays, c, e)
	}
	return c
}

func expect(t *testing.T, what string, got int, e api.Errno, want int, wantE api.Errno) {
	t.Helper()
	if got != want || e != wantE {
		t.Errorf("%s = %d, %d, want %d, %d", what, got, e, want, wantE)
	}
}

// run returns the n days from first on.
func run(first, n int) []int {
	l := make([]int, n)
	for i := range l {
		l[i] = first + i
	}
	return l
}

// P4.1
func TestNew(t *testing.T) {
	weekend, holidays := []int{6, 5}, []int{9, 3, 73048, 0}
	c := must(t, weekend, holidays)
	if !slices.Equal(weekend, []int{6, 5}) || !slices.Equal(holidays, []int{9, 3, 73048, 0}) {
		t.Error("New changed its arguments")
	}
	weekend[0], holidays[0] = 1, 1
	if !slices.Equal(c.Weekend(), []int{5, 6}) || !slices.Equal(c.Holidays(), []int{0, 3, 9, 73048}) {
		t.Error("elements:", c.Weekend(), c.Holidays())
	}
	c.Weekend()[0], c.Holidays()[0] = 1, 1
	if !slices.Equal(c.Weekend(), []int{5, 6}) || !slices.Equal(c.Holidays(), []int{0, 3, 9, 73048}) {
		t.Error("results share memory with the calendar")
	}
	must(t, nil, nil)
	must(t, []int{0, 1, 2, 3, 4, 5}, run(0, calendar.MaxHolidays))
}

// P4.1
func TestNewErrors(t *testing.T) {
	for _, c := range []struct {
		weekend, holidays []int
		e                 api.Errno
	}{
		{[]int{7}, nil, api.ErrRange},
		{[]int{-1}, nil, api.ErrRange},
		{nil, []int{-1}, api.ErrRange},
		{nil, []int{date.MaxDay + 1}, api.ErrRange},
		{[]int{1, 1}, []int{-1}, api.ErrRange},
		{[]int{0, 1, 2, 3, 4, 5, 6, 7}, nil, api.ErrRange},
		{[]int{1, 2, 1}, nil, api.ErrDuplicate},
		{nil, []int{5, 4, 5}, api.ErrDuplicate},
		{[]int{0, 1, 2, 3, 4, 5, 6}, []int{4, 4}, api.ErrDuplicate},
		{[]int{0, 1, 2, 3, 4, 5, 6, 6}, nil, api.ErrDuplicate},
		{[]int{0, 1, 2, 3, 4, 5, 6}, nil, api.ErrLimit},
		{nil, run(0, calendar.MaxHolidays+1), api.ErrLimit},
		{nil, run(-5, calendar.MaxHolidays+1), api.ErrLimit},
		{nil, make([]int, calendar.MaxHolidays+1), api.ErrLimit},
	} {
		if got, e := calendar.New(c.weekend, c.holidays); got != nil || e != c.e {
			t.Errorf("New(%v, %d holidays) = %v, %d, want %d", c.weekend, len(c.holidays), got, e, c.e)
		}
	}
}

// P4.1
func TestIsBusiness(t *testing.T) {
	weekend, holidays := []int{5, 6}, []int{9820, 0, 73048}
	c := must(t, weekend, holidays)
	for d := 0; d <= date.MaxDay; d++ {
		if c.IsBusiness(d) != plain(weekend, holidays, d) {
			t.Fatal("day", d)
		}
	}
	all := must(t, nil, nil)
	for _, d := range []int{-1, date.MaxDay + 1, math.MinInt, math.MaxInt} {
		if all.IsBusiness(d) {
			t.Error("not a day:", d)
		}
	}
	if !all.IsBusiness(0) || !all.IsBusiness(date.MaxDay) {
		t.Error("bounds")
	}
}

// P4.2 P4.6
func TestNextPrevious(t *testing.T) {
	weekend, holidays := []int{2, 5, 6}, append(run(100, 60), 0, 1, 73047)
	c := must(t, weekend, holidays)
	last := -1
	for d := 0; d <= 400; d++ {
		got, e := c.Previous(d)
		if last < 0 {
			expect(t, "Previous", got, e, 0, api.ErrDate)
		} else {
			expect(t, "Previous", got, e, last, api.OK)
		}
		if plain(weekend, holidays, d) {
			if last >= 0 {
				next, e := c.Next(last)
				expect(t, "Next", next, e, d, api.OK)
			}
			last = d
		}
	}
	next, e := c.Next(110)
	expect(t, "Next within holidays", next, e, 160, api.OK)
	end, _ := c.Previous(date.MaxDay)
	next, e = c.Next(end)
	if plain(weekend, holidays, date.MaxDay) {
		expect(t, "Next at the end", next, e, date.MaxDay, api.OK)
	}
	next, e = c.Next(date.MaxDay)
	expect(t, "Next(MaxDay)", next, e, 0, api.ErrDate)
	for _, d := range []int{-1, date.MaxDay + 1, math.MinInt, math.MaxInt} {
		next, e = c.Next(d)
		expect(t, "Next", next, e, 0, api.ErrRange)
		next, e = c.Previous(d)
		expect(t, "Previous", next, e, 0, api.ErrRange)
	}
}

// P4.3
func TestAdjust(t *testing.T) {
	// 2026-05-29 is a Friday, 2026-06-01 a Monday; 2026-07-31 a Friday, 2026-08-01 a Saturday.
	c := must(t, []int{5, 6}, []int{dayOf(2026, 6, 1), dayOf(2026, 6, 3)})
	for _, x := range []struct{ day, rule, want int }{
		{dayOf(2026, 5, 29), calendar.Following, dayOf(2026, 5, 29)},
		{dayOf(2026, 5, 30), calendar.Following, dayOf(2026, 6, 2)},
		{dayOf(2026, 5, 30), calendar.Preceding, dayOf(2026, 5, 29)},
		{dayOf(2026, 5, 30), calendar.ModifiedFollowing, dayOf(2026, 5, 29)},
		{dayOf(2026, 5, 30), calendar.ModifiedPreceding, dayOf(2026, 5, 29)},
		{dayOf(2026, 6, 1), calendar.Preceding, dayOf(2026, 5, 29)},
		{dayOf(2026, 6, 1), calendar.ModifiedPreceding, dayOf(2026, 6, 2)},
		{dayOf(2026, 6, 1), calendar.ModifiedFollowing, dayOf(2026, 6, 2)},
		{dayOf(2026, 6, 3), calendar.ModifiedFollowing, dayOf(2026, 6, 4)},
		{dayOf(2026, 6, 3), calendar.ModifiedPreceding, dayOf(2026, 6, 2)},
		{dayOf(2026, 6, 7), calendar.Following, dayOf(2026, 6, 8)},
	} {
		got, e := c.Adjust(x.day, x.rule)
		expect(t, "Adjust", got, e, x.want, api.OK)
	}
	for _, x := range []struct {
		day, rule int
		e         api.Errno
	}{{-1, 9, api.ErrRange}, {date.MaxDay + 1, 0, api.ErrRange}, {5, -1, api.ErrKind}, {5, 4, api.ErrKind}, {dayOf(2026, 5, 29), 4, api.ErrKind}} {
		got, e := c.Adjust(x.day, x.rule)
		expect(t, "Adjust", got, e, 0, x.e)
	}
}

// P4.3
func TestAdjustAtTheEnds(t *testing.T) {
	// The same day of the month in another month, or the same month of another year, is not the same month.
	early := must(t, nil, []int{0, 1})
	late := must(t, nil, []int{date.MaxDay})
	year := must(t, nil, run(0, 366))
	for _, x := range []struct {
		c               *calendar.Calendar
		day, rule, want int
		e               api.Errno
	}{
		{early, 1, calendar.Preceding, 0, api.ErrDate},
		{early, 1, calendar.ModifiedPreceding, 2, api.OK},
		{early, 1, calendar.ModifiedFollowing, 2, api.OK},
		{late, date.MaxDay, calendar.Following, 0, api.ErrDate},
		{late, date.MaxDay, calendar.ModifiedFollowing, date.MaxDay - 1, api.OK},
		{late, date.MaxDay, calendar.Preceding, date.MaxDay - 1, api.OK},
		{year, 5, calendar.ModifiedFollowing, 0, api.ErrDate},
		{year, 5, calendar.ModifiedPreceding, 366, api.OK},
		{year, 5, calendar.Following, 366, api.OK},
	} {
		got, e := x.c.Adjust(x.day, x.rule)
		expect(t, "Adjust", got, e, x.want, x.e)
	}
}

// P4.4 P4.6
func TestAddBusiness(t *testing.T) {
	weekend, holidays := []int{5, 6}, []int{9818, 9827}
	c := must(t, weekend, holidays)
	for from := 9800; from < 9830; from++ {
		got, e := c.AddBusiness(from, 0)
		expect(t, "AddBusiness 0", got, e, from, api.OK)
		n := 0
		for d := from + 1; d < 9860; d++ {
			if plain(weekend, holidays, d) {
				n++
				got, e = c.AddBusiness(from, n)
				expect(t, "AddBusiness", got, e, d, api.OK)
			}
			got, e = c.BusinessBetween(from, d)
			expect(t, "BusinessBetween", got, e, n, api.OK)
			got, e = c.BusinessBetween(d, from)
			expect(t, "BusinessBetween", got, e, -n, api.OK)
		}
		n = 0
		for d := from - 1; d > 9770; d-- {
			if plain(weekend, holidays, d) {
				n--
				got, e = c.AddBusiness(from, n)
				expect(t, "AddBusiness", got, e, d, api.OK)
			}
		}
	}
	got, e := c.BusinessBetween(9816, 9816)
	expect(t, "BusinessBetween", got, e, 0, api.OK)
}

// P4.4
func TestAddBusinessErrors(t *testing.T) {
	c := must(t, nil, nil)
	for _, x := range []struct {
		day, n, want int
		e            api.Errno
	}{
		{-1, 0, 0, api.ErrRange}, {date.MaxDay + 1, 5, 0, api.ErrRange},
		{0, -1, 0, api.ErrDate}, {date.MaxDay, 1, 0, api.ErrDate}, {5, -6, 0, api.ErrDate}, {5, -5, 0, api.OK},
		{5, math.MinInt, 0, api.ErrDate}, {5, math.MaxInt, 0, api.ErrDate}, {0, date.MaxDay, date.MaxDay, api.OK},
	} {
		got, e := c.AddBusiness(x.day, x.n)
		expect(t, "AddBusiness", got, e, x.want, x.e)
	}
	for _, x := range [][2]int{{-1, 5}, {5, -1}, {date.MaxDay + 1, 5}, {5, date.MaxDay + 1}} {
		got, e := c.BusinessBetween(x[0], x[1])
		expect(t, "BusinessBetween", got, e, 0, api.ErrRange)
	}
	got, e := c.BusinessBetween(0, date.MaxDay)
	expect(t, "BusinessBetween", got, e, date.MaxDay, api.OK)
}

// P4.4
func TestLastBusiness(t *testing.T) {
	may := dayOf(2026, 5, 1)
	c := must(t, []int{5, 6}, append(run(dayOf(2026, 6, 1), 30), dayOf(2026, 7, 31), date.MaxDay))
	for _, x := range []struct {
		day, want int
		e         api.Errno
	}{
		{may, dayOf(2026, 5, 29), api.OK}, {dayOf(2026, 5, 31), dayOf(2026, 5, 29), api.OK},
		{dayOf(2026, 6, 10), 0, api.ErrDate}, {dayOf(2026, 7, 31), dayOf(2026, 7, 30), api.OK},
		{date.MaxDay, date.MaxDay - 1, api.OK},
		{-1, 0, api.ErrRange}, {date.MaxDay + 1, 0, api.ErrRange},
	} {
		got, e := c.LastBusiness(x.day)
		expect(t, "LastBusiness", got, e, x.want, x.e)
	}
	january := must(t, nil, run(0, 31))
	got, e := january.LastBusiness(3)
	expect(t, "LastBusiness", got, e, 0, api.ErrDate)
}

// P4.5
func TestYearFraction(t *testing.T) {
	for _, x := range []struct {
		convention, from, to int
		num, den             int64
	}{
		{calendar.Act360, 9816, 9906, 1, 4},
		{calendar.Act360, 9906, 9816, -1, 4},
		{calendar.Act360, 5, 5, 0, 1},
		{calendar.Act365, 0, 365, 1, 1},
		{calendar.Act365, 0, date.MaxDay, date.MaxDay, 365},
		{calendar.Thirty360, dayOf(2026, 1, 31), dayOf(2026, 3, 31), 1, 6},
		{calendar.Thirty360, dayOf(2026, 1, 30), dayOf(2026, 3, 31), 1, 6},
		{calendar.Thirty360, dayOf(2026, 1, 29), dayOf(2026, 3, 31), 62, 360},
		{calendar.Thirty360, dayOf(2026, 1, 31), dayOf(2026, 3, 29), 59, 360},
		{calendar.Thirty360, dayOf(2026, 2, 28), dayOf(2026, 3, 31), 33, 360},
		{calendar.Thirty360, dayOf(2026, 3, 31), dayOf(2026, 1, 31), -1, 6},
		{calendar.Thirty360, dayOf(2026, 3, 31), dayOf(2026, 1, 30), -1, 6},
		{calendar.Thirty360, dayOf(2026, 3, 29), dayOf(2026, 1, 31), -58, 360},
		{calendar.Thirty360, dayOf(2020, 12, 31), dayOf(2026, 1, 1), 1801, 360},
	} {
		want, _ := fraction.New(x.num, x.den)
		got, e := calendar.YearFraction(x.convention, x.from, x.to)
		if got != want || e != api.OK {
			t.Errorf("YearFraction(%d, %d, %d) = %v, %d, want %v", x.convention, x.from, x.to, got, e, want)
		}
	}
	for _, x := range []struct {
		convention, from, to int
		e                    api.Errno
	}{
		{-1, -1, 0, api.ErrKind}, {3, 0, 0, api.ErrKind}, {0, -1, 0, api.ErrRange}, {1, 0, -1, api.ErrRange},
		{2, date.MaxDay + 1, 0, api.ErrRange}, {2, 0, date.MaxDay + 1, api.ErrRange},
	} {
		if got, e := calendar.YearFraction(x.convention, x.from, x.to); got != (fraction.Fraction{}) || e != x.e {
			t.Errorf("YearFraction(%d, %d, %d) = %v, %d, want %d", x.convention, x.from, x.to, got, e, x.e)
		}
	}
}

// P4.6
func TestLaws(t *testing.T) {
	c := must(t, []int{4, 5}, []int{200, 203, 230})
	for a := 180; a < 240; a += 7 {
		for b := 180; b < 240; b += 5 {
			for _, convention := range []int{calendar.Act360, calendar.Act365} {
				x, _ := calendar.YearFraction(convention, a, b)
				y, _ := calendar.YearFraction(convention, b, 300)
				z, _ := calendar.YearFraction(convention, a, 300)
				if sum, _ := fraction.Add(x, y); sum != z {
					t.Error("not additive:", a, b)
				}
			}
		}
		for m := range 8 {
			for n := range 8 {
				mid, _ := c.AddBusiness(a, m)
				x, _ := c.AddBusiness(mid, n)
				y, _ := c.AddBusiness(a, m+n)
				if x != y {
					t.Error("AddBusiness", a, m, n)
				}
			}
		}
	}
}

// P4.6
func TestEqual(t *testing.T) {
	a := must(t, []int{5, 6}, []int{3, 1})
	for _, x := range []struct {
		o    *calendar.Calendar
		want bool
	}{
		{must(t, []int{6, 5}, []int{1, 3}), true}, {a, true},
		{must(t, []int{6}, []int{1, 3}), false}, {must(t, []int{5, 6}, []int{1}), false},
		{must(t, []int{5, 6}, []int{1, 4}), false}, {nil, false},
	} {
		if a.Equal(x.o) != x.want {
			t.Error("Equal", x.o)
		}
	}
	var none *calendar.Calendar
	if !none.Equal(nil) || none.Equal(a) {
		t.Error("Equal of nil")
	}
}

// P1, Terms of the chapter
func TestNil(t *testing.T) {
	var c *calendar.Calendar
	for _, f := range []func() (int, api.Errno){
		func() (int, api.Errno) { return c.Next(-1) },
		func() (int, api.Errno) { return c.Previous(5) },
		func() (int, api.Errno) { return c.Adjust(-5, 9) },
		func() (int, api.Errno) { return c.AddBusiness(5, 0) },
		func() (int, api.Errno) { return c.BusinessBetween(5, 6) },
		func() (int, api.Errno) { return c.LastBusiness(-1) },
	} {
		got, e := f()
		expect(t, "nil calendar", got, e, 0, api.ErrArgument)
	}
	if c.IsBusiness(5) || len(c.Holidays()) != 0 || len(c.Weekend()) != 0 {
		t.Error("nil calendar has days")
	}
}

// Example 1
func TestExample(t *testing.T) {
	c := must(t, []int{5, 6}, nil)
	previous, _ := c.Previous(9816)
	later, _ := c.AddBusiness(9816, 5)
	n, _ := c.BusinessBetween(9816, 9823)
	if !c.IsBusiness(9816) || previous != 9813 || later != 9823 || n != 5 {
		t.Error(previous, later, n)
	}
}
