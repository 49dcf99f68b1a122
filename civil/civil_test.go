package civil_test

import (
	"math"
	"math/big"
	"testing"
	"time"

	"rosetta/api"
	"rosetta/civil"
)

// limits are numbers at which a calculation may leave the range of int.
var limits = []int{math.MinInt, math.MinInt + 1, math.MinInt + 6, math.MinInt32, math.MaxInt32, math.MaxInt - 6, math.MaxInt - 1, math.MaxInt}

// remainder returns n mod m for m > 0, by numbers of any size.
func remainder(n, m int) int {
	return int(new(big.Int).Mod(big.NewInt(int64(n)), big.NewInt(int64(m))).Int64())
}

// isLeap is the definition of a leap year.
func isLeap(year int) bool {
	by := func(m int) bool { return remainder(year, m) == 0 }
	return by(4) && !by(100) || by(400)
}

// length is the definition of the length of a month, or 0 for a number that is no month.
func length(year, month int) int {
	switch month {
	case 1, 3, 5, 7, 8, 10, 12:
		return 31
	case 4, 6, 9, 11:
		return 30
	case 2:
		if isLeap(year) {
			return 29
		}
		return 28
	}
	return 0
}

func TestLeap(t *testing.T) { // P6.1
	for _, c := range []struct {
		year int
		want bool
	}{
		{2024, true}, {2026, false}, {2000, true}, {1900, false}, {2100, false}, {0, true}, {4, true}, {100, false}, {400, true},
		{-1, false}, {-4, true}, {-100, false}, {-400, true}, {10000, true}, {12100, false},
	} {
		if got := civil.Leap(c.year); got != c.want {
			t.Errorf("Leap(%d) = %v", c.year, got)
		}
	}
	for year := -12000; year <= 12000; year++ {
		if civil.Leap(year) != isLeap(year) {
			t.Fatalf("Leap(%d) = %v", year, !isLeap(year))
		}
	}
	for _, limit := range limits {
		for _, year := range []int{limit, limit / 100 * 100, limit / 400 * 400, limit / 4 * 4} {
			if civil.Leap(year) != isLeap(year) {
				t.Errorf("Leap(%d) = %v", year, !isLeap(year))
			}
		}
	}
}

func TestExamples(t *testing.T) { // P6.2
	for _, c := range []struct{ year, month, day, days int }{
		{1970, 1, 1, 0}, {2000, 2, 29, 11016}, {2026, 11, 16, 20773}, {1969, 12, 31, -1},
		{0, 1, 1, -719528}, {9999, 12, 31, 2932896}, {0, 2, 29, -719469}, {0, 12, 31, -719163},
		{1900, 2, 28, -25509}, {1900, 3, 1, -25508}, {2000, 3, 1, 11017}, {2024, 12, 31, 20088},
	} {
		if days, e := civil.Days(c.year, c.month, c.day); days != c.days || e != api.OK {
			t.Errorf("Days(%d, %d, %d) = %d, %d; want %d", c.year, c.month, c.day, days, e, c.days)
		}
		if year, month, day, e := civil.Date(c.days); year != c.year || month != c.month || day != c.day || e != api.OK {
			t.Errorf("Date(%d) = %d, %d, %d, %d; want %d, %d, %d", c.days, year, month, day, e, c.year, c.month, c.day)
		}
	}
}

func TestEveryDate(t *testing.T) { // P6.2, P6.3, P6.4: a walk through the calendar, day by day
	number := -719528
	weekday := remainder(3+number, 7)
	for year := range 10000 {
		for month := 1; month <= 12; month++ {
			for day := 1; day <= length(year, month); day++ {
				if days, e := civil.Days(year, month, day); days != number || e != api.OK {
					t.Fatalf("Days(%d, %d, %d) = %d, %d; want %d", year, month, day, days, e, number)
				}
				if y, m, d, e := civil.Date(number); y != year || m != month || d != day || e != api.OK {
					t.Fatalf("Date(%d) = %d, %d, %d, %d; want %d, %d, %d", number, y, m, d, e, year, month, day)
				}
				if got := civil.Weekday(number); got != weekday {
					t.Fatalf("Weekday(%d) = %d; want %d", number, got, weekday)
				}
				number++
				weekday = (weekday + 1) % 7
			}
		}
	}
	if number != 2932897 {
		t.Errorf("the dates end before %d", number)
	}
}

func TestLibraryCalendar(t *testing.T) { // P6.2, P6.3
	for number := -719528; number <= 2932896; number += 13 {
		want := time.Unix(int64(number)*86400, 0).UTC()
		year, month, day, _ := civil.Date(number)
		if year != want.Year() || month != int(want.Month()) || day != want.Day() {
			t.Fatalf("Date(%d) = %d, %d, %d; want %v", number, year, month, day, want)
		}
		if got := civil.Weekday(number); got != (int(want.Weekday())+6)%7 {
			t.Fatalf("Weekday(%d) = %d; want that of %v", number, got, want.Weekday())
		}
	}
}

func TestDaysErrors(t *testing.T) { // P6.2
	for _, c := range [][3]int{
		{1900, 2, 29}, {10000, 1, 1}, {2024, 4, 31}, {-1, 12, 31}, {-4, 2, 29}, {2024, 0, 1}, {2024, 13, 1}, {2024, -1, 1},
		{2024, 1, 0}, {2024, 1, 32}, {2024, 2, 30}, {2023, 2, 29}, {2024, 12, 32}, {2024, 1, -1}, {2024, 0, 0}, {2024, 256 + 1, 1},
	} {
		checkNoDate(t, c[0], c[1], c[2])
	}
	for _, year := range []int{0, 1, 1899, 1900, 2000, 2023, 2024, 9999} {
		for month := -2; month <= 15; month++ {
			for day := -2; day <= 34; day++ {
				if day < 1 || day > length(year, month) {
					checkNoDate(t, year, month, day)
				}
			}
		}
	}
	for _, limit := range limits {
		checkNoDate(t, limit, 1, 1)
		checkNoDate(t, 2024, limit, 1)
		checkNoDate(t, 2024, 1, limit)
		checkNoDate(t, limit, limit, limit)
	}
}

// checkNoDate checks that a year, a month and a day are rejected.
func checkNoDate(t *testing.T, year, month, day int) {
	t.Helper()
	if days, e := civil.Days(year, month, day); days != 0 || e != api.ErrTime {
		t.Errorf("Days(%d, %d, %d) = %d, %d; want ErrTime", year, month, day, days, e)
	}
}

func TestDateErrors(t *testing.T) { // P6.2
	for _, number := range append([]int{-719529, -719530, -800000, 2932897, 2932898, 4000000}, limits...) {
		if year, month, day, e := civil.Date(number); year != 0 || month != 0 || day != 0 || e != api.ErrTime {
			t.Errorf("Date(%d) = %d, %d, %d, %d; want ErrTime", number, year, month, day, e)
		}
	}
}

func TestWeekday(t *testing.T) { // P6.3
	for _, c := range [][2]int{{20773, 0}, {0, 3}, {-1, 2}, {-3, 0}, {-4, 6}, {3, 6}, {4, 0}, {-719528, 5}, {2932896, 4}} {
		if got := civil.Weekday(c[0]); got != c[1] {
			t.Errorf("Weekday(%d) = %d; want %d", c[0], got, c[1])
		}
	}
	check := func(number int) {
		sum := new(big.Int).Add(big.NewInt(int64(number)), big.NewInt(3))
		want := int(sum.Mod(sum, big.NewInt(7)).Int64())
		if got := civil.Weekday(number); got != want {
			t.Errorf("Weekday(%d) = %d; want %d", number, got, want)
		}
	}
	for _, limit := range limits {
		check(limit)
	}
	for step := range 20 {
		check(-719529 - step)
		check(2932897 + step)
		check(math.MaxInt - step)
		check(math.MinInt + step)
	}
}

func TestConsequences(t *testing.T) { // P6.4
	const cycle = 146097
	for number := -719528; number+cycle <= 2932896; number += 97 {
		year, month, day, _ := civil.Date(number)
		if y, m, d, e := civil.Date(number + cycle); y != year+400 || m != month || d != day || e != api.OK {
			t.Fatalf("Date(%d) = %d, %d, %d, %d; want that of %d after 400 years", number+cycle, y, m, d, e, number)
		}
		if civil.Weekday(number) != civil.Weekday(number+cycle) {
			t.Fatalf("the weekday of %d changes after 400 years", number)
		}
	}
}
