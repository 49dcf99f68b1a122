package instant

import (
	"strconv"
	"strings"

	"rosetta/api"
	"rosetta/civil"
)

// The fields of a text, in the order in which they are written.
const (
	year = iota
	month
	day
	hour
	minute
	second
	zoneHour
	zoneMinute
	fieldCount
)

// limits are the greatest values of the fields; the calendar knows more about the date.
var limits = [fieldCount]int{9999, 12, 31, 23, 59, 59, 23, 59}

const fractionDigits = 9

// text is the contents of an instant text, a local text, or a time with a zone, which is neither. The fields that it lacks are 0.
type text struct {
	shape  int
	fields [fieldCount]int
	nanos  int
	// zone is the character with which the zone begins, or 0 if there is none.
	zone byte
}

// scanner returns functions that read s from its beginning to its end: take reads one of the marks, or returns 0; digits reads as many digits as there are, up to a number of them; ended reports whether all is read.
func scanner(s string) (take func(marks string) byte, digits func(most int) string, ended func() bool) {
	at := 0
	take = func(marks string) byte {
		if at == len(s) || strings.IndexByte(marks, s[at]) < 0 {
			return 0
		}
		at++
		return s[at-1]
	}
	digits = func(most int) string {
		from := at
		for at < len(s) && at < from+most && s[at] >= '0' && s[at] <= '9' {
			at++
		}
		return s[from:at]
	}
	ended = func() bool { return at == len(s) }
	return take, digits, ended
}

// read returns the contents of a text, whether or not its values are in range.
func read(s string) (text, bool) {
	var t text
	take, digits, ended := scanner(s)
	group := func(first, last int, mark string) bool {
		for field := first; field <= last; field++ {
			if field > first && take(mark) == 0 {
				return false
			}
			written := digits(width(field))
			if len(written) < width(field) {
				return false
			}
			t.fields[field] = number(written)
		}
		return true
	}
	if len(s) < 3 || s[2] != ':' { // a text that begins with its time has a colon there
		if !group(year, day, "-") {
			return text{}, false
		}
		t.shape = IsDate
		if take("T ") == 0 {
			return t, ended()
		}
	}
	if !group(hour, second, ":") {
		return text{}, false
	}
	t.shape |= IsTime
	if take(".") != 0 {
		fraction := digits(fractionDigits)
		if fraction == "" {
			return text{}, false
		}
		t.nanos = number(fraction + strings.Repeat("0", fractionDigits-len(fraction)))
	}
	t.zone = take("Z+-")
	if (t.zone == '+' || t.zone == '-') && !group(zoneHour, zoneMinute, ":") {
		return text{}, false
	}
	return t, ended()
}

// inRange reports whether the values are in range.
func (t text) inRange() bool {
	for field := range fieldCount {
		if t.fields[field] > limits[field] {
			return false
		}
	}
	if t.shape == IsTime {
		return true
	}
	_, e := civil.Days(t.fields[year], t.fields[month], t.fields[day])
	return e == api.OK
}

// seconds returns the seconds of the moment of an instant text whose values are in range.
func (t text) seconds() int64 {
	days, _ := civil.Days(t.fields[year], t.fields[month], t.fields[day])
	clock := 3600*t.fields[hour] + 60*t.fields[minute] + t.fields[second]
	offset := 3600*t.fields[zoneHour] + 60*t.fields[zoneMinute]
	if t.zone == '-' {
		offset = -offset
	}
	return int64(days)*daySeconds + int64(clock-offset)
}

// canonical returns the canonical text without the zone.
func (t text) canonical() string {
	switch t.shape {
	case IsDate:
		return t.written(year, day, "-")
	case IsTime:
		return t.written(hour, second, ":") + t.fraction()
	}
	return t.written(year, day, "-") + "T" + t.written(hour, second, ":") + t.fraction()
}

// written returns a group of fields with a mark between them.
func (t text) written(first, last int, mark string) string {
	var group []string
	for field := first; field <= last; field++ {
		group = append(group, padded(t.fields[field], width(field)))
	}
	return strings.Join(group, mark)
}

// fraction returns the point and the fraction, or nothing if it is 0.
func (t text) fraction() string {
	if t.nanos == 0 {
		return ""
	}
	return "." + strings.TrimRight(padded(t.nanos, fractionDigits), "0")
}

// width returns the number of digits of a field.
func width(field int) int {
	if field == year {
		return 4
	}
	return 2
}

// number returns the number that a few digits denote.
func number(digits string) int {
	n := 0
	for i := range len(digits) {
		n = 10*n + int(digits[i]-'0')
	}
	return n
}

// padded returns the digits of n, after so many zeros that they have that width.
func padded(n, width int) string {
	digits := strconv.Itoa(n)
	return strings.Repeat("0", max(0, width-len(digits))) + digits
}
