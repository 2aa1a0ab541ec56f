package date_test

import (
	"math"
	"strings"
	"testing"
	"time"

	"giro/api"
	"giro/date"
)

// notDays contains numbers that are not day numbers.
var notDays = []int{-1, -2, -366, date.MaxDay + 1, date.MaxDay + 2, 100000, math.MaxInt, math.MinInt, math.MinInt + 1}

// timeOf returns a day as the standard library represents it.
func timeOf(n int) time.Time { return time.Date(2000, 1, 1+n, 0, 0, 0, 0, time.UTC) }

// civilOf returns the civil date of a day according to the standard library.
func civilOf(n int) date.Civil {
	year, month, day := timeOf(n).Date()
	return date.Civil{Year: year, Month: int(month), Day: day}
}

// dayOf returns the number of a valid date according to the standard library.
func dayOf(year, month, day int) int {
	at := time.Date(year, time.Month(month), day, 0, 0, 0, 0, time.UTC)
	return int(at.Sub(timeOf(0)) / (24 * time.Hour))
}

// lengthOf returns the length of a month according to the standard library.
func lengthOf(year, month int) int {
	return time.Date(year, time.Month(month+1), 0, 0, 0, 0, 0, time.UTC).Day()
}

func TestConstants(t *testing.T) {
	if date.MinDay != 0 || date.MaxDay != 73048 || date.Monday != 0 || date.Tuesday != 1 || date.Wednesday != 2 || date.Thursday != 3 || date.Friday != 4 || date.Saturday != 5 || date.Sunday != 6 {
		t.Error("constants")
	}
}

// P3.1, P3.5, P3.6, P3.8: every day.
func TestEveryDay(t *testing.T) {
	last := ""
	for n := date.MinDay; n <= date.MaxDay; n++ {
		c := civilOf(n)
		if got, e := date.ToCivil(n); got != c || e != api.OK {
			t.Fatalf("ToCivil(%d): %v %d", n, got, e)
		}
		if got, e := date.FromCivil(c); got != n || e != api.OK {
			t.Fatalf("FromCivil(%v): %d %d", c, got, e)
		}
		if w := date.Weekday(n); w != (int(timeOf(n).Weekday())+6)%7 || n > 0 && w != (date.Weekday(n-1)+1)%7 {
			t.Fatalf("Weekday(%d): %d", n, w)
		}
		year, week := timeOf(n).ISOWeek()
		if y, w, e := date.ISOWeek(n); y != year || w != week || e != api.OK {
			t.Fatalf("ISOWeek(%d): %d %d %d", n, y, w, e)
		}
		s, e := date.Format(n)
		if s != timeOf(n).Format("2006-01-02") || e != api.OK || s <= last {
			t.Fatalf("Format(%d): %q %d", n, s, e)
		}
		if got, e := date.Parse(s); got != n || e != api.OK {
			t.Fatalf("Parse(%q): %d %d", s, got, e)
		}
		if end, e := date.EndOfMonth(n); end != n-c.Day+lengthOf(c.Year, c.Month) || e != api.OK {
			t.Fatalf("EndOfMonth(%d): %d %d", n, end, e)
		}
		if !date.Valid(n) {
			t.Fatalf("%d is a day number", n)
		}
		last = s
	}
}

// P3.1, P3.3, P3.4, P3.5, P3.6
func TestNotDays(t *testing.T) {
	check := func(what string, n int, zero bool, e api.Errno) {
		t.Helper()
		if !zero || e != api.ErrRange {
			t.Errorf("%s, %d: %t %d", what, n, zero, e)
		}
	}
	for _, n := range notDays {
		if date.Valid(n) || date.Weekday(n) != -1 {
			t.Errorf("%d is not a day number: %d", n, date.Weekday(n))
		}
		c, e := date.ToCivil(n)
		check("ToCivil", n, c == date.Civil{}, e)
		end, e := date.EndOfMonth(n)
		check("EndOfMonth", n, end == 0, e)
		y, w, e := date.ISOWeek(n)
		check("ISOWeek", n, y == 0 && w == 0, e)
		s, e := date.Format(n)
		check("Format", n, s == "", e)
		for _, months := range []int{0, 1, -1, 12, math.MaxInt, math.MinInt} {
			x, e := date.AddMonths(n, months)
			check("AddMonths", n, x == 0, e)
		}
		for _, other := range append([]int{0, 1, 9816, date.MaxDay}, notDays...) {
			x, e := date.MonthsBetween(n, other)
			check("MonthsBetween", n, x == 0, e)
			x, e = date.MonthsBetween(other, n)
			check("MonthsBetween", n, x == 0, e)
		}
	}
}

// P3.1
func TestFromCivil(t *testing.T) {
	for year := 1997; year <= 2203; year++ {
		for month := -1; month <= 14; month++ {
			for day := -1; day <= 33; day++ {
				c := date.Civil{Year: year, Month: month, Day: day}
				good := year >= 2000 && year <= 2199 && month >= 1 && month <= 12 && day >= 1 && day <= lengthOf(year, month)
				n, e := date.FromCivil(c)
				if good && (n != dayOf(year, month, day) || e != api.OK) || !good && (n != 0 || e != api.ErrDate) {
					t.Fatalf("%v: %d %d", c, n, e)
				}
			}
		}
	}
	extremes := []int{math.MinInt, math.MinInt + 1, -2000, 0, 1, 2, 12, 2024, math.MaxInt - 1, math.MaxInt}
	for _, year := range extremes {
		for _, month := range extremes {
			for _, day := range extremes {
				if year == 2024 && month >= 1 && month <= 12 && day >= 1 && day <= 12 {
					continue
				}
				c := date.Civil{Year: year, Month: month, Day: day}
				if n, e := date.FromCivil(c); n != 0 || e != api.ErrDate {
					t.Errorf("%v: %d %d", c, n, e)
				}
			}
		}
	}
}

// P3.2
func TestIsLeap(t *testing.T) {
	for year := -2500; year <= 2500; year++ {
		if date.IsLeap(year) != (time.Date(year, 12, 31, 0, 0, 0, 0, time.UTC).YearDay() == 366) {
			t.Errorf("%d", year)
		}
	}
	// the largest int is 2^63 - 1, whose neighbours end in 5808
	for year, want := range map[int]bool{math.MaxInt: false, math.MaxInt - 3: true, math.MaxInt - 7: false, math.MinInt: true, math.MinInt + 1: false, math.MinInt + 8: false, -400: true, -100: false, 0: true} {
		if date.IsLeap(year) != want {
			t.Errorf("%d", year)
		}
	}
}

// P3.2
func TestDaysInMonth(t *testing.T) {
	for year := 1990; year <= 2210; year++ {
		for month := -2; month <= 15; month++ {
			want := 0
			if year >= 2000 && year <= 2199 && month >= 1 && month <= 12 {
				want = lengthOf(year, month)
			}
			if n := date.DaysInMonth(year, month); n != want {
				t.Errorf("%d-%d: %d", year, month, n)
			}
		}
	}
	for _, x := range []int{math.MinInt, -1, 0, 13, 2024, math.MaxInt} {
		for _, month := range []int{math.MinInt, -1, 0, 13, math.MaxInt} {
			if date.DaysInMonth(x, month) != 0 || x != 2024 && date.DaysInMonth(x, 2) != 0 {
				t.Errorf("%d-%d", x, month)
			}
		}
	}
}

// moved adds months in the way of the chapter; ok says whether the result is a day number.
func moved(n, months int) (to int, ok bool) {
	c := civilOf(n)
	first := time.Date(c.Year, time.Month(c.Month+months), 1, 0, 0, 0, 0, time.UTC)
	if first.Year() < 2000 || first.Year() > 2199 {
		return 0, false
	}
	year, month := first.Year(), int(first.Month())
	return dayOf(year, month, min(c.Day, lengthOf(year, month))), true
}

// P3.3
func TestAddMonths(t *testing.T) {
	for n := date.MinDay; n <= date.MaxDay; n += 13 {
		for _, months := range []int{0, 1, -1, 2, -2, 6, 11, -11, 12, -12, 13, -13, 48, -48, 600, -600, 1199, 1200, -1200, 2388, 2399, -2399, 2400, -2400, 2411, -2411, 100000, -100000} {
			want, ok := moved(n, months)
			got, e := date.AddMonths(n, months)
			if got != want || ok != (e == api.OK) || !ok && e != api.ErrRange {
				t.Fatalf("AddMonths(%d, %d): %d %d instead of %d", n, months, got, e, want)
			}
		}
	}
	for n := dayOf(2023, 12, 25); n <= dayOf(2024, 4, 5); n++ {
		for months := -50; months <= 50; months++ {
			want, _ := moved(n, months)
			if got, e := date.AddMonths(n, months); got != want || e != api.OK {
				t.Fatalf("AddMonths(%d, %d): %d %d instead of %d", n, months, got, e, want)
			}
		}
	}
	for i, c := range []struct {
		n, months, want int
		e               api.Errno
	}{
		{dayOf(2024, 1, 31), 1, dayOf(2024, 2, 29), api.OK},
		{dayOf(2024, 1, 31), 13, dayOf(2025, 2, 28), api.OK},
		{dayOf(2024, 2, 29), -12, dayOf(2023, 2, 28), api.OK},
		{dayOf(2024, 2, 29), 48, dayOf(2028, 2, 29), api.OK},
		{dayOf(2096, 2, 29), 48, dayOf(2100, 2, 28), api.OK},
		{dayOf(2000, 12, 31), -11, dayOf(2000, 1, 31), api.OK},
		{dayOf(2000, 12, 31), -12, 0, api.ErrRange},
		{dayOf(2199, 1, 1), 11, dayOf(2199, 12, 1), api.OK},
		{dayOf(2199, 1, 1), 12, 0, api.ErrRange},
		{date.MinDay, 2399, dayOf(2199, 12, 1), api.OK},
		{date.MinDay, 2400, 0, api.ErrRange},
		{date.MinDay, -1, 0, api.ErrRange},
		{date.MaxDay, -2399, dayOf(2000, 1, 31), api.OK},
		{date.MaxDay, -2400, 0, api.ErrRange},
		{date.MaxDay, 1, 0, api.ErrRange},
		{date.MaxDay, math.MaxInt, 0, api.ErrRange},
		{date.MaxDay, math.MinInt, 0, api.ErrRange},
		{date.MinDay, math.MaxInt, 0, api.ErrRange},
		{date.MinDay, math.MinInt, 0, api.ErrRange},
		{9816, math.MaxInt - 300, 0, api.ErrRange},
		{9816, math.MinInt + 300, 0, api.ErrRange},
	} {
		if n, e := date.AddMonths(c.n, c.months); n != c.want || e != c.e {
			t.Errorf("%d: %d %d", i, n, e)
		}
	}
}

// between counts the months between two days, the first not after the second, by trying all numbers.
func between(from, to int) int {
	m := 0
	for {
		n, ok := moved(from, m+1)
		if !ok || n > to {
			return m
		}
		m++
	}
}

// P3.4
func TestMonthsBetween(t *testing.T) {
	check := func(from, to int) {
		t.Helper()
		want := between(min(from, to), max(from, to))
		if from > to {
			want = -want
		}
		if m, e := date.MonthsBetween(from, to); m != want || e != api.OK {
			t.Fatalf("MonthsBetween(%d, %d): %d %d instead of %d", from, to, m, e, want)
		}
	}
	for _, year := range []int{2023, 2024, 2100} {
		for from := dayOf(year, 1, 1); from <= dayOf(year, 3, 31); from++ {
			for to := dayOf(year, 1, 1); to <= dayOf(year, 5, 2); to++ {
				check(from, to)
			}
		}
	}
	for from := 5; from <= date.MaxDay; from += 4391 {
		for to := 0; to <= date.MaxDay; to += 4567 {
			check(from, to)
		}
	}
	for i, c := range []struct{ from, to, want int }{
		{dayOf(2024, 1, 31), dayOf(2024, 2, 29), 1},
		{dayOf(2024, 1, 31), dayOf(2024, 2, 28), 0},
		{dayOf(2024, 2, 29), dayOf(2024, 1, 31), -1},
		{dayOf(2024, 2, 29), dayOf(2025, 2, 28), 12},
		{dayOf(2024, 2, 29), dayOf(2025, 2, 27), 11},
		{dayOf(2024, 3, 15), dayOf(2024, 3, 15), 0},
		{dayOf(2024, 3, 15), dayOf(2024, 4, 14), 0},
		{dayOf(2024, 3, 15), dayOf(2024, 4, 15), 1},
		{dayOf(2023, 12, 31), dayOf(2024, 1, 1), 0},
		{date.MinDay, date.MaxDay, 2399},
		{date.MaxDay, date.MinDay, -2399},
		{dayOf(2000, 1, 31), date.MaxDay, 2399},
		{date.MaxDay - 1, date.MaxDay, 0},
	} {
		if m, e := date.MonthsBetween(c.from, c.to); m != c.want || e != api.OK {
			t.Errorf("%d: %d %d", i, m, e)
		}
	}
}

// P3.5
func TestISOWeek(t *testing.T) {
	for i, c := range []struct{ n, year, week int }{
		{0, 1999, 52}, {1, 1999, 52}, {2, 2000, 1}, {9816, 2026, 47}, {date.MaxDay, 2200, 1}, {date.MaxDay - 2, 2199, 52}, {dayOf(2004, 12, 31), 2004, 53}, {dayOf(2005, 1, 2), 2004, 53}, {dayOf(2005, 1, 3), 2005, 1}, {dayOf(2008, 12, 29), 2009, 1},
	} {
		if y, w, e := date.ISOWeek(c.n); y != c.year || w != c.week || e != api.OK {
			t.Errorf("%d: %d %d %d", i, y, w, e)
		}
	}
}

// P3.6
func TestParseErrors(t *testing.T) {
	for s, want := range map[string]api.Errno{
		"": api.ErrFormat, "2026": api.ErrFormat, "2026-11-1": api.ErrFormat, "2026-1-16": api.ErrFormat, "2026-11-016": api.ErrFormat, "02026-11-16": api.ErrFormat, "26-11-16": api.ErrFormat, "2026-11-16 ": api.ErrFormat, " 2026-11-16": api.ErrFormat, "2026/11/16": api.ErrFormat, "2026-11/16": api.ErrFormat, "20261116": api.ErrFormat, "2026-1116-": api.ErrFormat, "2026-+1-16": api.ErrFormat, "2026-11--1": api.ErrFormat, "-026-11-16": api.ErrFormat, "+026-11-16": api.ErrFormat, "2026-1a-16": api.ErrFormat, "2026-11-1\x00": api.ErrFormat, "2026-11-1/": api.ErrFormat, "2026-11-1:": api.ErrFormat, "2026-11-１": api.ErrFormat, "abcd-ef-gh": api.ErrFormat, "2026 11 16": api.ErrFormat, "0000000000": api.ErrFormat, "----------": api.ErrFormat, "2026-13-1x": api.ErrFormat,
		"2026-11-31": api.ErrDate, "2026-02-29": api.ErrDate, "2100-02-29": api.ErrDate, "2026-00-10": api.ErrDate, "2026-13-10": api.ErrDate, "2026-11-00": api.ErrDate, "2026-12-32": api.ErrDate, "1999-12-31": api.ErrDate, "2200-01-01": api.ErrDate, "0000-00-00": api.ErrDate, "9999-99-99": api.ErrDate, "2026-99-01": api.ErrDate,
	} {
		if n, e := date.Parse(s); n != 0 || e != want {
			t.Errorf("%q: %d %d instead of %d", s, n, e, want)
		}
	}
	if n, e := date.Parse(strings.Repeat("2", 100000)); n != 0 || e != api.ErrFormat {
		t.Errorf("long text: %d %d", n, e)
	}
	const text = "2026-11-16"
	for i := range len(text) {
		for c := range 256 {
			s := text[:i] + string([]byte{byte(c)}) + text[i+1:]
			n, e := date.Parse(s)
			isDigit := c >= '0' && c <= '9'
			switch {
			case (text[i] == '-') != (c == '-') || text[i] != '-' && !isDigit:
				if n != 0 || e != api.ErrFormat {
					t.Errorf("%q: %d %d", s, n, e)
				}
			case e == api.OK:
				if back, _ := date.Format(n); back != s {
					t.Errorf("%q: %d, which is %q", s, n, back)
				}
			case n != 0 || e != api.ErrDate:
				t.Errorf("%q: %d %d", s, n, e)
			}
		}
	}
}

// P3.7
func TestClock(t *testing.T) {
	for _, day := range []int{date.MinDay, 1, 9816, date.MaxDay} {
		text := timeOf(day).Format("2006-01-02")
		for minute := range 1440 {
			c := api.Clock{Day: day, Minute: minute}
			s, e := date.FormatClock(c)
			if s != text+" "+timeOf(0).Add(time.Duration(minute)*time.Minute).Format("15:04") || e != api.OK {
				t.Fatalf("%v: %q %d", c, s, e)
			}
			if back, e := date.ParseClock(s); back != c || e != api.OK {
				t.Fatalf("%q: %v %d", s, back, e)
			}
		}
	}
	for _, minute := range []int{-1, 1440, 1441, math.MaxInt, math.MinInt} {
		for _, day := range []int{date.MinDay, 9816, date.MaxDay, -1, date.MaxDay + 1} {
			if s, e := date.FormatClock(api.Clock{Day: day, Minute: minute}); s != "" || e != api.ErrRange {
				t.Errorf("%d, minute %d: %q %d", day, minute, s, e)
			}
		}
	}
	for _, day := range notDays {
		for _, minute := range []int{0, 600, 1439} {
			if s, e := date.FormatClock(api.Clock{Day: day, Minute: minute}); s != "" || e != api.ErrRange {
				t.Errorf("%d, minute %d: %q %d", day, minute, s, e)
			}
		}
	}
}

// P3.7
func TestParseClockErrors(t *testing.T) {
	for s, want := range map[string]api.Errno{
		"": api.ErrFormat, "2026-11-16": api.ErrFormat, "2026-11-16 ": api.ErrFormat, "2026-11-16 9:30": api.ErrFormat, "2026-11-16 09:3": api.ErrFormat, "2026-11-16 09:300": api.ErrFormat, "2026-11-16 09:30 ": api.ErrFormat, " 2026-11-16 09:30": api.ErrFormat, "2026-11-16T09:30": api.ErrFormat, "2026-11-16  9:30": api.ErrFormat, "2026-11-16-09:30": api.ErrFormat, "2026-11-16 09.30": api.ErrFormat, "2026-11-16 09-30": api.ErrFormat, "2026-11-16 +9:30": api.ErrFormat, "2026-11-16 0a:30": api.ErrFormat, "2026-11-16 09:3x": api.ErrFormat, "2026/11/16 09:30": api.ErrFormat, "2026-11-16 :0930": api.ErrFormat, "2026-11-16\x0009:30": api.ErrFormat,
		"2026-02-29 25:0x": api.ErrFormat, "2026-02-29 10:00": api.ErrDate, "1999-12-31 23:59": api.ErrDate, "2200-01-01 00:00": api.ErrDate, "2026-11-31 24:60": api.ErrDate, "2026-00-01 00:00": api.ErrDate,
		"2026-11-16 24:00": api.ErrRange, "2026-11-16 25:00": api.ErrRange, "2026-11-16 99:99": api.ErrRange, "2026-11-16 10:60": api.ErrRange, "2026-11-16 23:60": api.ErrRange, "2026-11-16 00:99": api.ErrRange, "2000-01-01 24:00": api.ErrRange,
	} {
		if c, e := date.ParseClock(s); c != (api.Clock{}) || e != want {
			t.Errorf("%q: %v %d instead of %d", s, c, e, want)
		}
	}
	const text = "2026-11-16 19:30"
	for i := range len(text) {
		for b := range 256 {
			s := text[:i] + string([]byte{byte(b)}) + text[i+1:]
			c, e := date.ParseClock(s)
			if back, _ := date.FormatClock(c); e == api.OK && back != s || e != api.OK && c != (api.Clock{}) {
				t.Errorf("%q: %v %d", s, c, e)
			}
			wrong := b != int(text[i])
			if strings.IndexByte("- :", text[i]) >= 0 {
				if wrong && e != api.ErrFormat {
					t.Errorf("%q: %d", s, e)
				}
			} else if digit := b >= '0' && b <= '9'; digit == (e == api.ErrFormat) {
				t.Errorf("%q: %d", s, e)
			}
		}
	}
}

// P3.7: clocks of any values are compared.
func TestCompareClock(t *testing.T) {
	values := []int{math.MinInt, math.MinInt + 1, -1, 0, 1, 1439, 1440, 9816, math.MaxInt - 1, math.MaxInt}
	for i, day := range values {
		for j, minute := range values {
			for k, otherDay := range values {
				for l, otherMinute := range values {
					want := 0
					switch {
					case i < k || i == k && j < l:
						want = -1
					case i > k || j > l:
						want = 1
					}
					a, b := api.Clock{Day: day, Minute: minute}, api.Clock{Day: otherDay, Minute: otherMinute}
					if got := date.CompareClock(a, b); got != want {
						t.Errorf("%v %v: %d", a, b, got)
					}
				}
			}
		}
	}
}
