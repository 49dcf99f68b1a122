package binary_test

import (
	"math"
	"math/big"
	"math/rand"
	"sort"
	"strconv"
	"strings"
	"testing"

	"rosetta/api"
	"rosetta/binary"
	"rosetta/decimal"
)

// nines is the greatest coefficient of a decimal.
var nines = strings.Repeat("9", api.MaxDigits)

func TestDecimalExamples(t *testing.T) { // P5.3
	five := func(exp int64) *big.Int { return new(big.Int).Exp(big.NewInt(5), big.NewInt(exp), nil) }
	for _, c := range []struct {
		f, want string
		e       api.Errno
	}{
		{"3p-1", "15e-1", api.OK},
		{"-3p-1", "-15e-1", api.OK},
		{"0p0", "0e0", api.OK},
		{"-0p0", "0e0", api.OK},
		{"1p0", "1e0", api.OK},
		{"5p1", "1e1", api.OK},
		{"-25p2", "-1e2", api.OK},
		{"1p-572", five(572).String() + "e-572", api.OK}, // 400 digits
		{"-1p-572", "-" + five(572).String() + "e-572", api.OK},
		{"1p-573", "", api.ErrLong}, // 401 digits
		{"-1p-573", "", api.ErrLong},
		{"1p-1074", "", api.ErrLong},
		{"9007199254740991p-1074", "", api.ErrLong},
		{"inf", "", api.ErrKind},
		{"-inf", "", api.ErrKind},
		{"nan", "", api.ErrKind},
		{"2p0", "", api.ErrForm},
		{"1e0", "", api.ErrForm},
	} {
		if d, e := binary.Decimal(c.f); d != c.want || e != c.e {
			t.Errorf("Decimal(%q) = %q, %d; want %q, %d", c.f, d, e, c.want, c.e)
		}
	}
}

func TestDecimal(t *testing.T) { // P5.3
	check := func(f string) {
		m, after, _ := strings.Cut(f, "p")
		exp, _ := strconv.Atoi(after)
		coef, _ := new(big.Int).SetString(m, 10)
		if exp > 0 {
			coef.Lsh(coef, uint(exp))
		} else {
			coef.Mul(coef, new(big.Int).Exp(big.NewInt(5), big.NewInt(int64(-exp)), nil))
		}
		want, wantE := decimalText(coef, min(exp, 0)), api.OK
		if digits, _, _ := strings.Cut(want, "e"); len(strings.TrimPrefix(digits, "-")) > api.MaxDigits {
			want, wantE = "", api.ErrLong
		}
		d, e := binary.Decimal(f)
		if d != want || e != wantE {
			t.Fatalf("Decimal(%q) = %q, %d; want %q, %d", f, d, e, want, wantE)
		}
		if e == api.OK && f != "-0p0" {
			if back, exact, e := binary.Nearest(d); back != f || !exact || e != api.OK {
				t.Fatalf("Nearest(%q) = %q, %v, %d; want %q, true", d, back, exact, e, f)
			}
		}
	}
	for _, x := range numbers(200) {
		if !math.IsInf(x, 0) {
			check(textOf(x))
		}
	}
	for exp := -1074; exp < 1024; exp++ {
		check("1p" + strconv.Itoa(exp))
		if exp < 972 {
			check("-9007199254740991p" + strconv.Itoa(exp))
		}
	}
}

func TestNearestExamples(t *testing.T) { // P5.3
	for _, c := range []struct {
		d, want string
		exact   bool
	}{
		{"1e-1", "3602879701896397p-55", false},
		{"-1e-1", "-3602879701896397p-55", false},
		{"0e0", "0p0", true},
		{"1e0", "1p0", true},
		{"-15e-1", "-3p-1", true},
		{"1e22", "2384185791015625p22", true},
		{"1e23", "2980232238769531p25", false},              // a tie
		{"9007199254740993e0", "1p53", false},               // a tie
		{"9007199254740995e0", "2251799813685249p2", false}, // a tie
		{"9007199254740993000000000001e-12", "4503599627370497p1", false},
		{"9007199254740992999999999999e-12", "1p53", false},
		{"5e-324", "1p-1074", false},
		{"2e-324", "0p0", false},
		{"3e-324", "1p-1074", false},
		{"-2e-324", "-0p0", false},
		{"1e-2000", "0p0", false},
		{"-1e-2000", "-0p0", false},
		{"-" + nines + "e-2000", "-0p0", false},
		{nines + "e-724", "0p0", false},
		{nines + "e-723", "1p-1073", false}, // just below 1e-323
		{"1e308", textOf(1e308), false},
		{"1e309", "inf", false},
		{"-1e309", "-inf", false},
		{"1e2000", "inf", false},
		{"-" + nines + "e2000", "-inf", false},
		{"17976931348623157e292", "9007199254740991p971", false},
		{"17976931348623158e292", "9007199254740991p971", false},
		{"17976931348623159e292", "inf", false},
	} {
		if f, exact, e := binary.Nearest(c.d); f != c.want || exact != c.exact || e != api.OK {
			t.Errorf("Nearest(%.40q) = %q, %v, %d; want %q, %v", c.d, f, exact, e, c.want, c.exact)
		}
	}
}

// checkNearest compares Nearest with the library's reader of numerals.
func checkNearest(t *testing.T, d string) {
	t.Helper()
	x, _ := strconv.ParseFloat(d, 64)
	want := textOf(x)
	exact := !math.IsInf(x, 0) && new(big.Rat).SetFloat64(x).Cmp(exactDecimal(d)) == 0
	if f, got, e := binary.Nearest(d); f != want || got != exact || e != api.OK {
		t.Fatalf("Nearest(%q) = %q, %v, %d; want %q, %v", d, f, got, e, want, exact)
	}
}

func TestNearest(t *testing.T) { // P5.3
	source := rand.New(rand.NewSource(10))
	for range 800 {
		for _, size := range []int{1, 3, 17, 19, 40, 399} {
			coef := new(big.Int).Rand(source, new(big.Int).Exp(big.NewInt(10), big.NewInt(int64(size)), nil))
			if source.Intn(2) == 0 {
				coef.Neg(coef)
			}
			for _, exp := range []int{0, -size, source.Intn(40) - 20, source.Intn(660) - 340 - size/2, source.Intn(20) - 330 - size, source.Intn(20) + 300 - size} {
				checkNearest(t, decimalText(coef, exp))
			}
		}
	}
	for exp := -2000; exp <= 2000; exp++ {
		checkNearest(t, "1e"+strconv.Itoa(exp))
		checkNearest(t, "-7e"+strconv.Itoa(exp))
	}
}

// around returns the decimals of 400 digits directly below and above a positive number, and the number itself if it is a decimal.
func around(x *big.Rat) []string {
	log := len(x.Num().String()) - len(x.Denom().String())
	exp := log - api.MaxDigits + 1
	scaled := new(big.Rat).Mul(x, quotient(10, -exp))
	coef, rest := new(big.Int).QuoRem(scaled.Num(), scaled.Denom(), new(big.Int))
	list := []string{decimalText(new(big.Int).Add(coef, big.NewInt(1)), exp)}
	if rest.Sign() == 0 {
		list = append(list, decimalText(new(big.Int).Sub(coef, big.NewInt(1)), exp))
	}
	list = append(list, decimalText(coef, exp))
	valid := list[:0]
	for _, d := range list {
		if decimal.Valid(d) {
			valid = append(valid, d)
		}
	}
	return valid
}

func TestNearestAroundTheMiddle(t *testing.T) { // P5.3
	ties := 0
	check := func(x float64) {
		next := math.Nextafter(x, math.Inf(1))
		high := new(big.Rat).SetInt(new(big.Int).Lsh(big.NewInt(1), 1024)) // as if there were no infinity
		if !math.IsInf(next, 0) {
			high.SetFloat64(next)
		}
		low := new(big.Rat).SetFloat64(x)
		middle := new(big.Rat).Mul(new(big.Rat).Add(low, high), big.NewRat(1, 2))
		for _, d := range around(middle) {
			want := textOf(x)
			c := exactDecimal(d).Cmp(middle)
			if c > 0 || c == 0 && math.Float64bits(x)%2 == 1 {
				want = textOf(next)
			}
			if c == 0 {
				ties++
			}
			if f, exact, e := binary.Nearest(d); f != want || exact || e != api.OK {
				t.Fatalf("Nearest(%q) = %q, %v, %d; want %q", d, f, exact, e, want)
			}
			if f, exact, e := binary.Nearest("-" + d); f != "-"+want || exact || e != api.OK {
				t.Fatalf("Nearest(-%q) = %q, %v, %d; want -%q", d, f, exact, e, want)
			}
		}
	}
	for _, x := range numbers(60) {
		if !math.Signbit(x) && !math.IsInf(x, 0) {
			check(x)
		}
	}
	if ties < 100 {
		t.Errorf("only %d ties", ties)
	}
}

func TestNearestIsMonotone(t *testing.T) { // P5.3
	var list []string
	for _, exp := range []int{-2000, -400, -325, -324, -323, -17, -1, 0, 1, 15, 291, 292, 308, 309, 2000} {
		for coef := range 120 {
			list = append(list, decimalText(big.NewInt(int64(coef)), exp), decimalText(big.NewInt(int64(-coef)), exp))
			list = append(list, decimalText(big.NewInt(int64(17976931348623100+coef)), exp))
		}
	}
	kept := list[:0]
	for _, d := range list {
		if decimal.Valid(d) {
			kept = append(kept, d)
		}
	}
	sort.Slice(kept, func(i, j int) bool { return decimal.Cmp(kept[i], kept[j]) < 0 })
	for i := 1; i < len(kept); i++ {
		f, _, _ := binary.Nearest(kept[i-1])
		g, _, _ := binary.Nearest(kept[i])
		if c, ok := binary.Cmp(f, g); c > 0 || !ok {
			t.Fatalf("Nearest(%q) = %q and Nearest(%q) = %q", kept[i-1], f, kept[i], g)
		}
	}
}

func TestShortestExamples(t *testing.T) { // P5.4
	for _, c := range []struct {
		f, want string
		e       api.Errno
	}{
		{"3602879701896397p-55", "1e-1", api.OK},
		{"-3602879701896397p-55", "-1e-1", api.OK},
		{"1p-1074", "5e-324", api.OK},
		{"-1p-1074", "-5e-324", api.OK},
		{"1p-1073", "1e-323", api.OK}, // closer than 8e-324 and 9e-324
		{"3p-1074", "15e-324", api.OK},
		{"0p0", "0e0", api.OK},
		{"1p0", "1e0", api.OK},
		{"5p1", "1e1", api.OK},
		{"3p-1", "15e-1", api.OK},
		{"2980232238769531p25", "1e23", api.OK},
		{"5960464477539061p24", "9999999999999997e7", api.OK},
		{"1p-44", "5684341886080802e-29", api.OK}, // a closer one of as many digits is nearer to the float below
		{"9007199254740991p971", "17976931348623157e292", api.OK},
		{"1p-1022", "22250738585072014e-324", api.OK},
		{"4503599627370497p-2", "11258999068426242e-1", api.OK}, // a tie: ..24.25, and 2 is even
		{"4503599627370499p-2", "11258999068426248e-1", api.OK}, // a tie: ..24.75
		{"-4503599627370497p-2", "-11258999068426242e-1", api.OK},
		{"-0p0", "", api.ErrKind},
		{"inf", "", api.ErrKind},
		{"-inf", "", api.ErrKind},
		{"nan", "", api.ErrKind},
		{"2p0", "", api.ErrForm},
		{"-nan", "", api.ErrForm},
	} {
		if d, e := binary.Shortest(c.f); d != c.want || e != c.e {
			t.Errorf("Shortest(%q) = %q, %d; want %q, %d", c.f, d, e, c.want, c.e)
		}
	}
}

// shortestOf returns by its definition the shortest decimal for a positive number: among all decimals with a number of digits around it, those that the library reads as the number.
func shortestOf(x float64) string {
	exact := new(big.Rat).SetFloat64(x)
	_, after, _ := strings.Cut(strconv.FormatFloat(x, 'e', 0, 64), "e")
	log, _ := strconv.Atoi(after)
	for size := 1; size <= 17; size++ {
		best, bestCoef := "", new(big.Int)
		distance := new(big.Rat)
		for exp := log - size; exp <= log-size+2; exp++ { // one more on either side, for rounded logarithms and carries
			scaled := new(big.Rat).Mul(exact, quotient(10, -exp))
			start := new(big.Int).Quo(scaled.Num(), scaled.Denom())
			for step := int64(-10); step <= 10; step++ {
				coef := new(big.Int).Add(start, big.NewInt(step))
				d := decimalText(coef, exp)
				digits, _, _ := strings.Cut(d, "e")
				back, _ := strconv.ParseFloat(d, 64)
				if coef.Sign() <= 0 || len(digits) != size || back != x {
					continue
				}
				off := new(big.Rat).Sub(exactDecimal(d), exact)
				c := off.Abs(off).Cmp(distance)
				reduced, _ := new(big.Int).SetString(digits, 10)
				if best == "" || c < 0 || c == 0 && reduced.Bit(0) < bestCoef.Bit(0) {
					best, bestCoef, distance = d, reduced, off
				}
			}
		}
		if best != "" {
			return best
		}
	}
	panic("no short decimal")
}

func TestShortestByDefinition(t *testing.T) { // P5.4
	var list []float64
	for n := range 40 {
		list = append(list, math.Float64frombits(uint64(n+1)))
		list = append(list, math.Ldexp(1<<52+float64(2*n+1), -2)) // ties
		list = append(list, math.MaxFloat64-math.Ldexp(float64(n), 971))
	}
	for exp := -1074; exp < 1024; exp += 9 {
		list = append(list, math.Ldexp(1, exp))
	}
	source := rand.New(rand.NewSource(11))
	for range 100 {
		list = append(list, math.Ldexp(source.Float64(), source.Intn(200)-100), float64(1+source.Intn(100000))/1000)
	}
	for _, x := range list {
		want := shortestOf(x)
		if d, e := binary.Shortest(textOf(x)); d != want || e != api.OK {
			t.Fatalf("Shortest(%q) = %q, %d; want %q", textOf(x), d, e, want)
		}
	}
}

func TestShortest(t *testing.T) { // P5.4
	list := numbers(150)
	for exp := -1074; exp < 1024; exp++ {
		list = append(list, math.Ldexp(1, exp))
	}
	for _, x := range list {
		if x == 0 || math.IsInf(x, 0) {
			continue
		}
		want, _ := decimal.Parse(strconv.FormatFloat(x, 'e', -1, 64))
		d, e := binary.Shortest(textOf(x))
		if d != want || e != api.OK {
			t.Fatalf("Shortest(%q) = %q, %d; want %q", textOf(x), d, e, want)
		}
		if f, _, e := binary.Nearest(d); f != textOf(x) || e != api.OK {
			t.Fatalf("Nearest(%q) = %q, %d; want %q", d, f, e, textOf(x))
		}
	}
}
