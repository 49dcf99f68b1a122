package instant_test

import (
	"cmp"
	"fmt"
	"math"
	"math/rand"
	"regexp"
	"slices"
	"strings"
	"testing"
	"time"

	"rosetta/api"
	"rosetta/instant"
)

const (
	firstSecond = -62167219200 // 0000-01-01T00:00:00Z
	lastSecond  = 253402300799 // 9999-12-31T23:59:59Z
)

var (
	instantForm = regexp.MustCompile(`\A([0-9]{4}-[0-9]{2}-[0-9]{2})[T ]([0-9]{2}:[0-9]{2}:[0-9]{2})(?:\.([0-9]{1,9}))?(Z|[+-][0-9]{2}:[0-9]{2})\z`)
	dateForm    = regexp.MustCompile(`\A([0-9]{4}-[0-9]{2}-[0-9]{2})\z`)
	timeForm    = regexp.MustCompile(`\A([0-9]{2}:[0-9]{2}:[0-9]{2})(?:\.([0-9]{1,9}))?\z`)
	bothForm    = regexp.MustCompile(`\A([0-9]{4}-[0-9]{2}-[0-9]{2})[T ]([0-9]{2}:[0-9]{2}:[0-9]{2})(?:\.([0-9]{1,9}))?\z`)
)

// referenceInstant is the definition of Instant, by a regular expression and the library's calendar.
func referenceInstant(s string) (string, api.Errno) {
	m := instantForm.FindStringSubmatch(s)
	if m == nil {
		return "", api.ErrForm
	}
	moment, err := time.Parse("2006-01-02T15:04:05", m[1]+"T"+m[2])
	if err != nil {
		return "", api.ErrTime
	}
	if m[4] != "Z" {
		var hours, minutes int
		fmt.Sscanf(m[4][1:], "%02d:%02d", &hours, &minutes)
		if hours > 23 || minutes > 59 {
			return "", api.ErrTime
		}
		offset := time.Duration(hours)*time.Hour + time.Duration(minutes)*time.Minute
		if m[4][0] == '+' {
			offset = -offset
		}
		moment = moment.Add(offset)
	}
	if moment.Year() < 0 || moment.Year() > 9999 {
		return "", api.ErrTime
	}
	return moment.Format("2006-01-02T15:04:05") + fraction(m[3]) + "Z", api.OK
}

// referenceLocal is the definition of Local, with the shape.
func referenceLocal(s string) (string, int, api.Errno) {
	if m := dateForm.FindStringSubmatch(s); m != nil {
		if !valid("2006-01-02", m[1]) {
			return "", 0, api.ErrTime
		}
		return s, instant.IsDate, api.OK
	}
	if m := timeForm.FindStringSubmatch(s); m != nil {
		if !valid("15:04:05", m[1]) {
			return "", 0, api.ErrTime
		}
		return m[1] + fraction(m[2]), instant.IsTime, api.OK
	}
	if m := bothForm.FindStringSubmatch(s); m != nil {
		if !valid("2006-01-02", m[1]) || !valid("15:04:05", m[2]) {
			return "", 0, api.ErrTime
		}
		return m[1] + "T" + m[2] + fraction(m[3]), instant.IsBoth, api.OK
	}
	return "", 0, api.ErrForm
}

// valid reports whether the library's calendar has that date or time.
func valid(layout, s string) bool {
	_, err := time.Parse(layout, s)
	return err == nil
}

// fraction returns the canonical form of the digits of a fraction.
func fraction(digits string) string {
	digits = strings.TrimRight(digits, "0")
	if digits == "" {
		return ""
	}
	return "." + digits
}

// check compares all functions of one text with the definitions.
func check(t *testing.T, s string) {
	t.Helper()
	want, wantE := referenceInstant(s)
	if got, e := instant.Instant(s); got != want || e != wantE {
		t.Fatalf("Instant(%q) = %q, %d; want %q, %d", s, got, e, want, wantE)
	}
	isMoment := wantE == api.OK && want == s
	seconds, nanos, e := instant.Seconds(s)
	if isMoment != (e == api.OK) || !isMoment && (seconds != 0 || nanos != 0 || e != api.ErrForm) {
		t.Fatalf("Seconds(%q) = %d, %d, %d", s, seconds, nanos, e)
	}
	if isMoment {
		moment, _ := time.Parse(time.RFC3339Nano, s)
		if seconds != moment.Unix() || nanos != moment.Nanosecond() {
			t.Fatalf("Seconds(%q) = %d, %d; want %d, %d", s, seconds, nanos, moment.Unix(), moment.Nanosecond())
		}
	}
	want, shape, wantE := referenceLocal(s)
	if got, e := instant.Local(s); got != want || e != wantE {
		t.Fatalf("Local(%q) = %q, %d; want %q, %d", s, got, e, want, wantE)
	}
	if want != s {
		shape = 0
	}
	if got := instant.Shape(s); got != shape {
		t.Fatalf("Shape(%q) = %d; want %d", s, got, shape)
	}
}

func TestInstant(t *testing.T) { // P7.1
	for _, c := range [][2]string{
		{"2026-11-16 10:46:38.50+01:00", "2026-11-16T09:46:38.5Z"},
		{"2026-11-16T09:46:38Z", "2026-11-16T09:46:38Z"},
		{"2026-11-16 09:46:38Z", "2026-11-16T09:46:38Z"},
		{"1970-01-01T00:00:00.000Z", "1970-01-01T00:00:00Z"},
		{"1970-01-01T00:00:00.000000001Z", "1970-01-01T00:00:00.000000001Z"},
		{"1970-01-01T00:00:00.100000000Z", "1970-01-01T00:00:00.1Z"},
		{"1970-01-01T00:00:00.0100Z", "1970-01-01T00:00:00.01Z"},
		{"1970-01-01T00:00:00.999999999-00:00", "1970-01-01T00:00:00.999999999Z"},
		{"2024-03-01T00:30:00+01:00", "2024-02-29T23:30:00Z"},
		{"2023-03-01T00:30:00+01:00", "2023-02-28T23:30:00Z"},
		{"1999-12-31T23:59:59-00:01", "2000-01-01T00:00:59Z"},
		{"2000-01-01T00:00:00+23:59", "1999-12-31T00:01:00Z"},
		{"2000-01-01T23:59:59-23:59", "2000-01-02T23:58:59Z"},
		{"0000-01-01T00:00:00Z", "0000-01-01T00:00:00Z"},
		{"0000-01-01T00:01:00+00:01", "0000-01-01T00:00:00Z"},
		{"0000-02-29T12:00:00Z", "0000-02-29T12:00:00Z"},
		{"9999-12-31T23:59:59.999999999Z", "9999-12-31T23:59:59.999999999Z"},
		{"9999-12-31T23:58:59.999999999-00:01", "9999-12-31T23:59:59.999999999Z"},
		{"9999-12-31T23:59:59+23:59", "9999-12-31T00:00:59Z"},
	} {
		if got, e := instant.Instant(c[0]); got != c[1] || e != api.OK {
			t.Errorf("Instant(%q) = %q, %d; want %q", c[0], got, e, c[1])
		}
		check(t, c[0])
		check(t, c[1])
	}
}

func TestInstantErrors(t *testing.T) { // P7.1
	for _, s := range []string{
		"", "Z", "T", "2026", "2026-11-16", "09:46:38", "09:46:38Z", "09:46:38+01:00", "2026-11-16Z", "2026-11-16TZ", "2026-11-16+01:00",
		"2026-11-16T09:46Z", "2026-11-16T09Z", "2026-11-16T09:46:38", "2026-11-16t09:46:38Z", "2026-11-16T09:46:38z", "2026-11-16T09:46:38 Z", "2026-11-16  09:46:38Z",
		"2026-11-16T 09:46:38Z", "2026-11-16_09:46:38Z", "2026-11-1609:46:38Z", "2026-11-16\t09:46:38Z",
		"2026-11-16T09:46:38.Z", "2026-11-16T09:46:38.1234567890Z", "2026-11-16T09:46:38,5Z", "2026-11-16T09:46:38.-5Z", "2026-11-16T09:46:38.5.5Z", "2026-11-16T09:46:.5Z",
		"2026-1-16T09:46:38Z", "2026-11-6T09:46:38Z", "026-11-16T09:46:38Z", "12026-11-16T09:46:38Z", "+2026-11-16T09:46:38Z", "-2026-11-16T09:46:38Z", "2026/11/16T09:46:38Z", "20261116T094638Z",
		"2026-11-16T09:46:38+0100", "2026-11-16T09:46:38+01", "2026-11-16T09:46:38+1:00", "2026-11-16T09:46:38+01:0", "2026-11-16T09:46:38+01:000", "2026-11-16T09:46:38+01:00:00", "2026-11-16T09:46:38+", "2026-11-16T09:46:38-", "2026-11-16T09:46:38Z+01:00", "2026-11-16T09:46:38ZZ", "2026-11-16T09:46:38*01:00",
		" 2026-11-16T09:46:38Z", "2026-11-16T09:46:38Z ", "2026-11-16T09:46:38Z\n", "2026-11-16T09:46:38Z\x00", "２026-11-16T09:46:38Z", "2026–11-16T09:46:38Z",
		"2026-02-30T09:46:38", "2026-99-99T99:99:99", // not in range, but no instant texts in the first place
	} {
		if got, e := instant.Instant(s); got != "" || e != api.ErrForm {
			t.Errorf("Instant(%q) = %q, %d; want ErrForm", s, got, e)
		}
		check(t, s)
	}
	for _, s := range []string{
		"2026-02-29T00:00:00Z", "1900-02-29T00:00:00Z", "2024-02-30T00:00:00Z", "2026-04-31T00:00:00Z", "2026-00-01T00:00:00Z", "2026-13-01T00:00:00Z", "2026-01-00T00:00:00Z", "2026-01-32T00:00:00Z",
		"2026-11-16T24:00:00Z", "2026-11-16T23:60:00Z", "2026-11-16T23:59:60Z", "2026-12-31T23:59:60.5Z", "2026-11-16T00:00:00+24:00", "2026-11-16T00:00:00-24:00", "2026-11-16T00:00:00+00:60", "2026-11-16T00:00:00-00:99",
		"0000-01-01T00:00:00+00:01", "0000-01-01T00:00:59.999999999+00:01", "0000-01-01T23:58:59+23:59", "9999-12-31T23:59:59-00:01", "9999-12-31T23:59:00-00:01", "9999-12-31T00:01:00-23:59", "9999-99-99 99:99:99.9+99:99",
	} {
		if got, e := instant.Instant(s); got != "" || e != api.ErrTime {
			t.Errorf("Instant(%q) = %q, %d; want ErrTime", s, got, e)
		}
		check(t, s)
	}
}

func TestLocalAndShape(t *testing.T) { // P7.1, P7.2
	for _, c := range []struct {
		s, want string
		shape   int
	}{
		{"09:46:38.000", "09:46:38", 2},
		{"00:00:00", "00:00:00", 2},
		{"23:59:59.999999999", "23:59:59.999999999", 2},
		{"12:34:56.010000000", "12:34:56.01", 2},
		{"12:34:56.7", "12:34:56.7", 2},
		{"2026-11-16", "2026-11-16", 1},
		{"0000-01-01", "0000-01-01", 1},
		{"9999-12-31", "9999-12-31", 1},
		{"2024-02-29", "2024-02-29", 1},
		{"2026-11-16 09:46:38", "2026-11-16T09:46:38", 3},
		{"2026-11-16T09:46:38", "2026-11-16T09:46:38", 3},
		{"2026-11-16 09:46:38.120", "2026-11-16T09:46:38.12", 3},
		{"9999-12-31T23:59:59.999999999", "9999-12-31T23:59:59.999999999", 3},
		{"0000-01-01 00:00:00.0", "0000-01-01T00:00:00", 3},
	} {
		if got, e := instant.Local(c.s); got != c.want || e != api.OK {
			t.Errorf("Local(%q) = %q, %d; want %q", c.s, got, e, c.want)
		}
		if got := instant.Shape(c.want); got != c.shape {
			t.Errorf("Shape(%q) = %d; want %d", c.want, got, c.shape)
		}
		if got := instant.Shape(c.s); c.s != c.want && got != 0 {
			t.Errorf("Shape(%q) = %d; want 0", c.s, got)
		}
		check(t, c.s)
		check(t, c.want)
	}
	if instant.IsDate != 1 || instant.IsTime != 2 || instant.IsBoth != 3 {
		t.Error("the shapes have other numbers")
	}
}

func TestLocalErrors(t *testing.T) { // P7.1, P7.2
	for _, s := range []string{
		"", "T", "2026-11", "2026-11-16T", "2026-11-16 ", "T09:46:38", " 09:46:38", "09:46", "09:46:", "9:46:38", "009:46:38", "09:46:38.", "09:46:38.1234567890", "09-46-38", "2026:11:16", "2026-11-16T09:46",
		"2026-11-16T09:46:38Z", "2026-11-16 09:46:38+01:00", "09:46:38Z", "09:46:38+00:00", "2026-11-16Z", "2026-11-16t09:46:38", "2026-11-16T2026-11-16", "09:46:38T2026-11-16", "09:46:38 ", "2026-11-16\n", "ab:", "::", "::::::::",
	} {
		if got, e := instant.Local(s); got != "" || e != api.ErrForm || instant.Shape(s) != 0 {
			t.Errorf("Local(%q) = %q, %d; want ErrForm; Shape is %d", s, got, e, instant.Shape(s))
		}
		check(t, s)
	}
	for _, s := range []string{
		"2026-04-31", "2026-02-29", "2026-00-10", "2026-10-00", "2026-13-01", "0000-00-00", "24:00:00", "00:60:00", "23:59:60", "99:99:99.999999999", "2026-02-29T00:00:00", "2026-11-16 24:00:00", "2026-11-16T00:00:60.5",
	} {
		if got, e := instant.Local(s); got != "" || e != api.ErrTime || instant.Shape(s) != 0 {
			t.Errorf("Local(%q) = %q, %d; want ErrTime; Shape is %d", s, got, e, instant.Shape(s))
		}
		check(t, s)
	}
}

// forms are texts of all forms.
var forms = []string{
	"2026-11-16", "09:46:38", "19:06:38.20", "2024-02-29T09:46:38", "2026-11-16 09:46:38.123456789",
	"2026-11-16T09:46:38Z", "2026-10-31 09:46:38.5Z", "1999-12-31T23:30:59.123456780-01:30", "0000-01-01 00:30:00+00:30",
}

func TestChangedTexts(t *testing.T) { // P7.1, P7.2, P7.3: every part of a form is cut out, every byte is replaced or inserted, and so are pairs of bytes of a small alphabet
	const alphabet = "019-+:.TtZz \x00é"
	for _, form := range forms {
		for from := range len(form) + 1 {
			for to := from; to <= len(form); to++ {
				check(t, form[from:to])
				check(t, form[:from]+form[to:])
			}
		}
		for at := range len(form) {
			for c := range 256 {
				check(t, form[:at]+string([]byte{byte(c)})+form[at+1:])
				check(t, form[:at]+string([]byte{byte(c)})+form[at:])
			}
			for i := range len(alphabet) {
				for j := range len(alphabet) {
					pair := string([]byte{alphabet[i], alphabet[j]})
					check(t, form[:at]+pair+form[at:])
					check(t, form[:at]+pair+form[min(at+2, len(form)):])
				}
			}
		}
	}
	for _, first := range forms {
		for _, second := range forms {
			for _, between := range []string{"", " ", "T", "Z"} {
				check(t, first+between+second)
			}
		}
	}
}

func TestFieldsInRange(t *testing.T) { // P7.1: every value of every field
	for n := range 100 {
		for _, layout := range []string{
			"2026-%02d-28T00:00:00Z", "2026-%02d-31T00:00:00Z", "2026-02-%02dT00:00:00Z", "2024-02-%02dT00:00:00Z", "2026-04-%02dT00:00:00Z", "2026-12-%02dT00:00:00Z",
			"2026-11-16T%02d:00:00Z", "2026-11-16T23:%02d:00Z", "2026-11-16T23:59:%02dZ", "2026-11-16T23:59:59+%02d:59", "2026-11-16T23:59:59-%02d:59", "2026-11-16T23:59:59+23:%02d", "2026-11-16T23:59:59-23:%02d",
			"2026-%02d-30", "2026-05-%02d", "1900-02-%02d", "2000-02-%02d", "%02d:59:59", "23:%02d:59", "23:59:%02d", "%02d00-02-29", "00%02d-02-29 00:00:00",
		} {
			check(t, fmt.Sprintf(layout, n))
		}
	}
}

func TestEveryZone(t *testing.T) { // P7.1: every zone, also across the ends of days, months, years and the calendar
	for zone := range 24 * 60 {
		for _, sign := range []string{"+", "-"} {
			for _, s := range []string{"2026-11-16T12:00:00.5", "2024-02-29 23:59:59", "2024-03-01T00:00:00", "1999-12-31T23:59:59", "2000-01-01T00:00:00", "0000-01-01T12:00:00", "9999-12-31T12:00:00"} {
				check(t, fmt.Sprintf("%s%s%02d:%02d", s, sign, zone/60, zone%60))
			}
		}
	}
}

func TestSeconds(t *testing.T) { // P7.3
	for _, c := range []struct {
		s       string
		seconds int64
		nanos   int
	}{
		{"1970-01-01T00:00:00Z", 0, 0},
		{"1970-01-01T00:00:01.5Z", 1, 500000000},
		{"1969-12-31T23:59:59.5Z", -1, 500000000},
		{"1969-12-31T23:59:59Z", -1, 0},
		{"1969-12-31T23:59:58.000000001Z", -2, 1},
		{"1970-01-02T00:00:00Z", 86400, 0},
		{"1969-12-31T00:00:00Z", -86400, 0},
		{"2000-01-01T00:00:00.25Z", 946684800, 250000000},
		{"2026-11-16T09:46:38Z", 1794822398, 0},
		{"2038-01-19T03:14:08Z", 1 << 31, 0},
		{"1901-12-13T20:45:51.999999999Z", -1<<31 - 1, 999999999},
		{"0000-01-01T00:00:00Z", firstSecond, 0},
		{"0000-12-31T23:59:59Z", firstSecond + 366*86400 - 1, 0},
		{"9999-12-31T23:59:59.999999999Z", lastSecond, 999999999},
	} {
		if seconds, nanos, e := instant.Seconds(c.s); seconds != c.seconds || nanos != c.nanos || e != api.OK {
			t.Errorf("Seconds(%q) = %d, %d, %d; want %d, %d", c.s, seconds, nanos, e, c.seconds, c.nanos)
		}
		if got, e := instant.OfSeconds(c.seconds, c.nanos); got != c.s || e != api.OK {
			t.Errorf("OfSeconds(%d, %d) = %q, %d; want %q", c.seconds, c.nanos, got, e, c.s)
		}
	}
	for _, s := range []string{
		"", "x", "1970-01-01", "00:00:00", "1970-01-01T00:00:00", "1970-01-01 00:00:00Z", "1970-01-01T00:00:00+00:00", "1970-01-01T00:00:00-00:00", "1970-01-01T00:00:00.0Z", "1970-01-01T00:00:00.10Z", "1970-01-01T00:00:00.Z",
		"2026-02-29T00:00:00Z", "1970-01-01T24:00:00Z", "1970-01-01T23:59:60Z", "0000-01-01T00:00:00+00:01", "9999-12-31T23:59:59-00:01", "1970-01-01T01:00:00+01:00", // these are ErrTime for Instant, or not canonical
	} {
		if seconds, nanos, e := instant.Seconds(s); seconds != 0 || nanos != 0 || e != api.ErrForm {
			t.Errorf("Seconds(%q) = %d, %d, %d; want ErrForm", s, seconds, nanos, e)
		}
	}
}

func TestOfSecondsErrors(t *testing.T) { // P7.3
	for _, c := range []struct {
		seconds int64
		nanos   int
		want    api.Errno
	}{
		{0, -1, api.ErrRange}, {0, 1000000000, api.ErrRange}, {0, math.MinInt, api.ErrRange}, {0, math.MaxInt, api.ErrRange}, {0, 999999999, api.OK},
		{firstSecond - 1, 0, api.ErrTime}, {firstSecond - 1, 999999999, api.ErrTime}, {firstSecond, 0, api.OK}, {lastSecond, 999999999, api.OK}, {lastSecond + 1, 0, api.ErrTime},
		{math.MinInt64, 0, api.ErrTime}, {math.MaxInt64, 999999999, api.ErrTime}, {math.MinInt64, -1, api.ErrRange}, {math.MaxInt64, 1000000000, api.ErrRange}, {lastSecond + 1, -1, api.ErrRange},
		{1 << 32 * 86400, 0, api.ErrTime}, {-1 << 32 * 86400, 0, api.ErrTime},
	} {
		if got, e := instant.OfSeconds(c.seconds, c.nanos); e != c.want || (e != api.OK && got != "") {
			t.Errorf("OfSeconds(%d, %d) = %q, %d; want %d", c.seconds, c.nanos, got, e, c.want)
		}
	}
}

func TestEveryDayAndSecond(t *testing.T) { // P7.3, P7.5: one second of every day, every second of one day, and random moments
	compare := func(seconds int64, nanos int) {
		t.Helper()
		want := time.Unix(seconds, int64(nanos)).UTC().Format("2006-01-02T15:04:05.999999999Z")
		s, e := instant.OfSeconds(seconds, nanos)
		if s != want || e != api.OK {
			t.Fatalf("OfSeconds(%d, %d) = %q, %d; want %q", seconds, nanos, s, e, want)
		}
		if backSeconds, backNanos, e := instant.Seconds(s); backSeconds != seconds || backNanos != nanos || e != api.OK {
			t.Fatalf("Seconds(%q) = %d, %d, %d; want %d, %d", s, backSeconds, backNanos, e, seconds, nanos)
		}
		if again, e := instant.Instant(s); again != s || e != api.OK {
			t.Fatalf("Instant(%q) = %q, %d", s, again, e)
		}
	}
	for day := int64(firstSecond); day < lastSecond; day += 86400 * 7 {
		compare(day, 0)
		compare(day+86399, 999999999)
	}
	for second := range int64(86400) {
		compare(second-43200, 0)
	}
	random := rand.New(rand.NewSource(7))
	for range 100000 {
		compare(firstSecond+random.Int63n(lastSecond-firstSecond+1), random.Intn(1000000000))
	}
	for places, nanos := 0, 1; places < 9; places, nanos = places+1, nanos*10 {
		compare(0, nanos)
		compare(-1, 1000000000-nanos)
	}
}

func TestCmp(t *testing.T) { // P7.4, P7.5
	type moment struct {
		seconds int64
		nanos   int
	}
	var moments []moment
	for _, seconds := range []int64{firstSecond, -1 << 33, -86401, -86400, -61, -60, -2, -1, 0, 1, 9, 10, 59, 60, 3599, 3600, 86399, 86400, 1 << 33, lastSecond} {
		for _, nanos := range []int{0, 1, 9, 10, 99999999, 100000000, 100000001, 500000000, 999999999} {
			moments = append(moments, moment{seconds, nanos})
		}
	}
	texts := make([]string, len(moments))
	for i, m := range moments {
		texts[i], _ = instant.OfSeconds(m.seconds, m.nanos)
	}
	for i, a := range moments {
		for j, b := range moments {
			want := cmp.Or(cmp.Compare(a.seconds, b.seconds), cmp.Compare(a.nanos, b.nanos))
			if got := instant.Cmp(texts[i], texts[j]); got != want || (got == 0) != (texts[i] == texts[j]) {
				t.Fatalf("Cmp(%q, %q) = %d; want %d", texts[i], texts[j], got, want)
			}
		}
	}
	for _, other := range []string{"", "x", "2000-01-01", "2000-01-01T00:00:00", "2000-01-01 00:00:00Z", "2000-01-01T00:00:00.0Z", "2000-01-01T00:00:00+00:00", "2000-02-30T00:00:00Z", "9999-12-31T23:59:59-00:01"} {
		for _, s := range append(slices.Clone(texts), other, "") {
			if a, b := instant.Cmp(s, other), instant.Cmp(other, s); a != 0 || b != 0 {
				t.Fatalf("Cmp of %q and %q is %d and %d", s, other, a, b)
			}
		}
	}
}

func TestCanonicalTextsStay(t *testing.T) { // P7.5
	for _, form := range forms {
		if s, e := instant.Instant(form); e == api.OK {
			if again, e := instant.Instant(s); again != s || e != api.OK {
				t.Errorf("Instant(%q) = %q, %d", s, again, e)
			}
		}
		if s, e := instant.Local(form); e == api.OK {
			if again, e := instant.Local(s); again != s || e != api.OK || instant.Shape(s) == 0 {
				t.Errorf("Local(%q) = %q, %d; Shape is %d", s, again, e, instant.Shape(s))
			}
		}
	}
}

func TestLongTexts(t *testing.T) { // P1
	for _, s := range []string{strings.Repeat("0", 100000), forms[5] + strings.Repeat(" ", 100000), "00:00:00." + strings.Repeat("1", 100000), strings.Repeat(forms[5], 1000)} {
		check(t, s)
	}
}
