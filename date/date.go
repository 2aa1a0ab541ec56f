// Package date converts between day numbers and civil dates (layer 3, see shared/doc/03-date.md).
package date

import (
	"cmp"
	"strconv"

	"giro/api"
)

// MinDay and MaxDay bound the day numbers: 2000-01-01 is day 0, 2199-12-31 is day 73048.
const (
	MinDay = 0
	MaxDay = 73048
)

// The days of the week.
const (
	Monday    = 0
	Tuesday   = 1
	Wednesday = 2
	Thursday  = 3
	Friday    = 4
	Saturday  = 5
	Sunday    = 6
)

// Civil is a date of the Gregorian calendar.
type Civil struct{ Year, Month, Day int }

// The civil years whose days have numbers.
const (
	minYear = 2000
	maxYear = 2199
)

// The forms of texts: a 0 stands for any digit.
const (
	dateForm  = "0000-00-00"
	clockForm = "0000-00-00 00:00"
)

// monthLengths holds the lengths of the months, from January on, of a year that is not a leap year.
var monthLengths = [12]int{31, 28, 31, 30, 31, 30, 31, 31, 30, 31, 30, 31}

// Valid reports whether n is a day number.
func Valid(n int) bool { return MinDay <= n && n <= MaxDay }

// FromCivil returns the day number of a civil date.
func FromCivil(c Civil) (int, api.Errno) {
	if c.Day < 1 || c.Day > DaysInMonth(c.Year, c.Month) {
		return 0, api.ErrDate
	}
	n := newYear(c.Year) + c.Day - 1
	for month := 1; month < c.Month; month++ {
		n += DaysInMonth(c.Year, month)
	}
	return n, api.OK
}

// ToCivil returns the civil date of a day number.
func ToCivil(n int) (Civil, api.Errno) {
	if !Valid(n) {
		return Civil{}, api.ErrRange
	}
	c := Civil{Year: yearOf(n), Month: 1}
	rest := n - newYear(c.Year)
	for rest >= DaysInMonth(c.Year, c.Month) {
		rest -= DaysInMonth(c.Year, c.Month)
		c.Month++
	}
	c.Day = rest + 1
	return c, api.OK
}

// Weekday returns the day of the week of a day number, or -1.
func Weekday(n int) int {
	if !Valid(n) {
		return -1
	}
	return (n + Saturday) % 7
}

// IsLeap reports whether a year has 366 days.
func IsLeap(year int) bool {
	return year%4 == 0 && year%100 != 0 || year%400 == 0
}

// DaysInMonth returns the number of days of a month, or 0 for an invalid month.
func DaysInMonth(year, month int) int {
	if year < minYear || year > maxYear || month < 1 || month > 12 {
		return 0
	}
	if month == 2 && IsLeap(year) {
		return 29
	}
	return monthLengths[month-1]
}

// AddMonths moves a day by a number of months; the day of the month is reduced to the last one if necessary.
func AddMonths(n, months int) (int, api.Errno) {
	c, e := ToCivil(n)
	if e != api.OK {
		return 0, e
	}
	// A number of months may be too large to be added to another one.
	here := monthNumber(c)
	last := monthNumber(Civil{Year: maxYear, Month: 12})
	if months < -here || months > last-here {
		return 0, api.ErrRange
	}
	target := here + months
	c.Year, c.Month = minYear+target/12, target%12+1
	c.Day = min(c.Day, DaysInMonth(c.Year, c.Month))
	return FromCivil(c)
}

// EndOfMonth returns the last day of the month of a day.
func EndOfMonth(n int) (int, api.Errno) {
	c, e := ToCivil(n)
	if e != api.OK {
		return 0, e
	}
	return n + DaysInMonth(c.Year, c.Month) - c.Day, api.OK
}

// MonthsBetween returns the number of whole months from one day to another one.
func MonthsBetween(from, to int) (int, api.Errno) {
	if from <= to {
		return monthsUntil(from, to)
	}
	months, e := monthsUntil(to, from)
	return -months, e
}

// ISOWeek returns the ISO 8601 year and week number of a day.
func ISOWeek(n int) (int, int, api.Errno) {
	if !Valid(n) {
		return 0, 0, api.ErrRange
	}
	thursday := n - Weekday(n) + Thursday
	year := yearOf(thursday)
	return year, (thursday-newYear(year))/7 + 1, api.OK
}

// Format returns a day as YYYY-MM-DD.
func Format(n int) (string, api.Errno) {
	c, e := ToCivil(n)
	if e != api.OK {
		return "", e
	}
	return strconv.Itoa(c.Year) + "-" + twoDigits(c.Month) + "-" + twoDigits(c.Day), api.OK
}

// Parse returns the day number of a date in the form YYYY-MM-DD.
func Parse(s string) (int, api.Errno) {
	if !hasForm(s, dateForm) {
		return 0, api.ErrFormat
	}
	field := fieldsOf(s)
	return FromCivil(Civil{Year: field(0, 4), Month: field(5, 7), Day: field(8, 10)})
}

// FormatClock returns a point in time as YYYY-MM-DD HH:MM.
func FormatClock(c api.Clock) (string, api.Errno) {
	day, e := Format(c.Day)
	if e != api.OK || c.Minute < 0 || c.Minute > 1439 {
		return "", api.ErrRange
	}
	return day + " " + twoDigits(c.Minute/60) + ":" + twoDigits(c.Minute%60), api.OK
}

// ParseClock returns the point in time of a text in the form YYYY-MM-DD HH:MM.
func ParseClock(s string) (api.Clock, api.Errno) {
	if !hasForm(s, clockForm) {
		return api.Clock{}, api.ErrFormat
	}
	day, e := Parse(s[:len(dateForm)])
	if e != api.OK {
		return api.Clock{}, e
	}
	field := fieldsOf(s)
	hour, minute := field(11, 13), field(14, 16)
	if hour > 23 || minute > 59 {
		return api.Clock{}, api.ErrRange
	}
	return api.Clock{Day: day, Minute: hour*60 + minute}, api.OK
}

// CompareClock returns -1, 0 or 1 as a is before, equal to or after b.
func CompareClock(a, b api.Clock) int {
	return cmp.Or(cmp.Compare(a.Day, b.Day), cmp.Compare(a.Minute, b.Minute))
}

// newYear returns the number of the first day of a year; the years 1999, 2200 and 2201, which weeks may reach, have one too.
func newYear(year int) int {
	return (year-minYear)*365 + leapYearsBefore(year) - leapYearsBefore(minYear)
}

// leapYearsBefore returns the number of leap years from year 1 to the one before a year.
func leapYearsBefore(year int) int {
	return (year-1)/4 - (year-1)/100 + (year-1)/400
}

// yearOf returns the year of a day, which may be a few days beyond the day numbers.
func yearOf(n int) int {
	// No year has more than 366 days, so this year is not too late.
	year := minYear + n/366
	if n < MinDay {
		year--
	}
	for newYear(year+1) <= n {
		year++
	}
	return year
}

// monthNumber returns the number of months from the first month to that of a date.
func monthNumber(c Civil) int { return (c.Year-minYear)*12 + c.Month - 1 }

// monthsUntil returns the number of whole months from a day to one that is not before it.
func monthsUntil(from, to int) (int, api.Errno) {
	a, e := ToCivil(from)
	if e != api.OK {
		return 0, e
	}
	b, e := ToCivil(to)
	if e != api.OK {
		return 0, e
	}
	months := monthNumber(b) - monthNumber(a)
	moved, e := AddMonths(from, months)
	if e != api.OK {
		return 0, e
	}
	if moved > to {
		months--
	}
	return months, api.OK
}

// twoDigits returns a number below 100 with a leading zero if necessary.
func twoDigits(n int) string {
	return string([]byte{'0' + byte(n/10), '0' + byte(n%10)})
}

// hasForm reports whether s has digits where the form has zeros, and the bytes of the form elsewhere.
func hasForm(s, form string) bool {
	if len(s) != len(form) {
		return false
	}
	for i := range len(s) {
		isDigit := '0' <= s[i] && s[i] <= '9'
		if form[i] == '0' && !isDigit || form[i] != '0' && s[i] != form[i] {
			return false
		}
	}
	return true
}

// fieldsOf returns a function that reads the digits of s between two indices as a number.
func fieldsOf(s string) func(from, to int) int {
	return func(from, to int) int {
		n := 0
		for _, c := range []byte(s[from:to]) {
			n = n*10 + int(c-'0')
		}
		return n
	}
}
