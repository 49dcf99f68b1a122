package binary_test

import (
	"math"
	"math/big"
	"math/rand"
	"regexp"
	"strconv"
	"strings"
	"testing"

	"rosetta/api"
	"rosetta/binary"
)

// wrong are texts that are not canonical.
var wrong = []string{
	"", "p", "0", "1", "-", "0p", "p0", "1p", "-p0", "1p-", "0p1", "0p-1", "-0p1", "00p0", "0p00", "0p-0", "-0p-0", "+0p0", "+1p0", "1p+0", "1p-0", "1p00", "1p01", "1p-01", "01p0", "-01p0",
	"2p0", "-2p0", "10p1", "12p-3", "9007199254740992p0", "1.0p0", "1P0", "0x1p0", "1e0", "1p1p1", "1p1.0", "1_1p0", "1p1_0", " 1p0", "1p0 ", "1 p0", "1p 0", "1p0\n", "--1p0", "1p--1", "\x001p0", "1p0\x00", "\xffp0", "1p\xff", "١p0", "1p١",
	"Inf", "INF", "+inf", "--inf", "infinity", "inf ", " inf", "infp0", "-infp0", "in", "-", "NaN", "NAN", "-nan", "+nan", "nanp0", "nan ", "snan", "nan0",
	"1p1024", "1p-1075", "3p1023", "9007199254740991p972", "9007199254740993p0", "-9007199254740993p0", "18014398509481983p0", "18446744073709551615p0", "18446744073709551617p0", "36893488147419103233p-100",
	"1p9223372036854775807", "1p-9223372036854775808", "1p9223372036854775808", "1p18446744073709551616", "1p4294967296", "1p-4294967297",
	strings.Repeat("9", 400) + "p0", strings.Repeat("9", 401) + "p0", "1p" + strings.Repeat("9", 5000), "1p-" + strings.Repeat("0", 5000), strings.Repeat("1", 100000), strings.Repeat("p", 1000),
}

// combinations calls visit for all strings of at most the given length over an alphabet of bytes.
func combinations(alphabet string, length int, visit func(s string)) {
	var extend func(s string)
	extend = func(s string) {
		visit(s)
		if len(s) < length {
			for i := range len(alphabet) {
				extend(s + alphabet[i:i+1])
			}
		}
	}
	extend("")
}

// textOf returns the canonical text of a number by the library's own notation of it.
func textOf(x float64) string {
	switch {
	case math.IsNaN(x):
		return "nan"
	case math.IsInf(x, 0):
		return strings.TrimPrefix(strings.ToLower(strconv.FormatFloat(x, 'g', -1, 64)), "+")
	case x == 0 && math.Signbit(x):
		return "-0p0"
	case x == 0:
		return "0p0"
	}
	m, after, _ := strings.Cut(strconv.FormatFloat(x, 'b', -1, 64), "p")
	significand, _ := strconv.ParseInt(m, 10, 64)
	exp, _ := strconv.Atoi(after)
	for significand%2 == 0 {
		significand, exp = significand/2, exp+1
	}
	return strconv.FormatInt(significand, 10) + "p" + strconv.Itoa(exp)
}

// numberOf returns the number of a canonical text that is known to be one.
func numberOf(f string) float64 {
	switch f {
	case "nan":
		return math.NaN()
	case "inf", "-inf":
		return math.Inf(1 - 2*strings.Count(f, "-"))
	}
	m, after, _ := strings.Cut(f, "p")
	exp, _ := strconv.Atoi(after)
	significand, _ := strconv.ParseFloat(m, 64)
	return math.Ldexp(significand, exp)
}

// quotient returns base^exp, or its inverse for a negative exponent.
func quotient(base int64, exp int) *big.Rat {
	power := new(big.Int).Exp(big.NewInt(base), big.NewInt(int64(max(exp, -exp))), nil)
	if exp < 0 {
		return new(big.Rat).SetFrac(big.NewInt(1), power)
	}
	return new(big.Rat).SetInt(power)
}

// exactDecimal returns the number of a canonical text of a decimal.
func exactDecimal(d string) *big.Rat {
	coef, after, _ := strings.Cut(d, "e")
	exp, _ := strconv.Atoi(after)
	number, ok := new(big.Int).SetString(coef, 10)
	if !ok {
		panic("not a decimal: " + d)
	}
	return new(big.Rat).Mul(new(big.Rat).SetInt(number), quotient(10, exp))
}

// decimalText returns the text of coef * 10^exp without zeros at the end of the coefficient.
func decimalText(coef *big.Int, exp int) string {
	if coef.Sign() == 0 {
		return "0e0"
	}
	digits := strings.TrimRight(coef.String(), "0")
	return digits + "e" + strconv.Itoa(exp+len(coef.String())-len(digits))
}

// numbers returns floats of many sizes: those at the limits of the formats, their neighbors, and random ones.
func numbers(random int) []float64 {
	var list []float64
	seen := map[uint64]bool{}
	add := func(x float64) {
		for _, y := range []float64{x, math.Nextafter(x, math.Inf(1)), math.Nextafter(x, math.Inf(-1))} {
			for _, z := range []float64{y, -y} {
				if !math.IsNaN(z) && !seen[math.Float64bits(z)] {
					seen[math.Float64bits(z)] = true
					list = append(list, z)
				}
			}
		}
	}
	for _, x := range []float64{0, 1, 3, 10, 0.1, 0.3, 1e22, 1e23, 9.5, 5e-324, math.MaxFloat64, math.Inf(1), 0x1p-1022, math.MaxFloat32, 0x1p128, 0x1.ffffffp127, 0x1p-126, 0x1p-149, 0x1p-150, 65504, 65519, 65520, 65536, 0x1p-14, 0x1p-24, 0x1p-25, 1 << 53, 1<<53 - 1} {
		add(x)
	}
	for exp := -1074; exp < 1024; exp += 7 {
		add(math.Ldexp(1, exp))
	}
	source := rand.New(rand.NewSource(5))
	for range random {
		add(math.Float64frombits(source.Uint64() >> 1))
		add(math.Ldexp(source.Float64(), source.Intn(300)-150))
		add(math.Ldexp(source.Float64(), source.Intn(46)-28))
		add(float64(source.Intn(100000)) / 100)
		add(float64(math.Float32frombits(source.Uint32())))
	}
	return list
}

func TestValid(t *testing.T) { // P5.1
	form := regexp.MustCompile(`^(-?0p0|-?inf|nan|-?([1-9][0-9]*)?[13579]p(0|-?[1-9][0-9]*))$`)
	check := func(s string) { // short texts are never too great or too small, but for exponents
		want := form.MatchString(s)
		if m, after, cut := strings.Cut(s, "p"); want && cut && m != "0" && m != "-0" {
			exp, _ := strconv.Atoi(after)
			significand, _ := strconv.Atoi(m)
			size := len(strconv.FormatInt(int64(max(significand, -significand)), 2))
			want = exp >= -1074 && exp+size <= 1024 && size <= 53
		}
		if binary.Valid(s) != want {
			t.Fatalf("Valid(%q) = %v", s, !want)
		}
	}
	combinations("-+.p012359", 6, check)
	combinations("-infa0p", 5, check)
	for _, m := range []string{"1", "-1", "3", "-5", "4503599627370497", "9007199254740991", "-9007199254740991"} {
		for exp := -1100; exp <= 1100; exp++ {
			check(m + "p" + strconv.Itoa(exp))
		}
	}
	for size := 1; size < 63; size++ {
		for _, m := range []int{1<<size - 1, 1<<size + 1} {
			for _, exp := range []int{-1075, -1074, 0, 1024 - size, 1023 - size, 1025 - size} {
				check(strconv.Itoa(m) + "p" + strconv.Itoa(exp))
				check("-" + strconv.Itoa(m) + "p" + strconv.Itoa(exp))
			}
		}
	}
	for _, s := range wrong {
		if binary.Valid(s) {
			t.Errorf("Valid(%.30q) = true", s)
		}
	}
	for _, x := range append(numbers(200), math.NaN()) {
		if !binary.Valid(textOf(x)) {
			t.Errorf("Valid(%q) = false", textOf(x))
		}
	}
}

func TestOf(t *testing.T) { // P5.1
	for _, c := range []struct {
		m    string
		exp  int
		want string
		e    api.Errno
	}{
		{"12", 1, "3p3", api.OK},
		{"-12", 1, "-3p3", api.OK},
		{"1", 0, "1p0", api.OK},
		{"0", 0, "0p0", api.OK},
		{"0", 5, "0p0", api.OK},
		{"0", math.MaxInt, "0p0", api.OK},
		{"0", math.MinInt, "0p0", api.OK},
		{"1", -1074, "1p-1074", api.OK},
		{"1", -1075, "", api.ErrRange},
		{"2", -1075, "1p-1074", api.OK},
		{"3", -1075, "", api.ErrRange},
		{"-8", -1077, "-1p-1074", api.OK},
		{"1", 1023, "1p1023", api.OK},
		{"1", 1024, "", api.ErrRange},
		{"3", 1023, "", api.ErrRange},
		{"9007199254740991", 971, "9007199254740991p971", api.OK},
		{"9007199254740991", 972, "", api.ErrRange},
		{"9007199254740992", 970, "1p1023", api.OK},
		{"9007199254740992", 971, "", api.ErrRange},
		{"9007199254740993", 0, "", api.ErrRange},
		{"9007199254740994", 0, "4503599627370497p1", api.OK},
		{"-9007199254740993", 0, "", api.ErrRange},
		{"1", math.MaxInt, "", api.ErrRange},
		{"256", math.MaxInt, "", api.ErrRange},
		{"256", math.MaxInt - 7, "", api.ErrRange},
		{"1", math.MinInt, "", api.ErrRange},
		{"256", math.MinInt, "", api.ErrRange},
		{"18446744073709551617", 0, "", api.ErrRange},   // 2^64 + 1
		{"-36893488147419103233", 0, "", api.ErrRange},  // -(2^65 + 1)
		{"4722366482869645213697", 0, "", api.ErrRange}, // 2^72 + 1
		{strings.Repeat("9", 400), -1000, "", api.ErrRange},
		{"1" + strings.Repeat("0", 399), -399, "", api.ErrRange},
		{"", 0, "", api.ErrForm},
		{"-0", 0, "", api.ErrForm},
		{"+1", 0, "", api.ErrForm},
		{"01", 0, "", api.ErrForm},
		{"1p0", 0, "", api.ErrForm},
		{"inf", 0, "", api.ErrForm},
		{"nan", 0, "", api.ErrForm},
		{"0x1", 0, "", api.ErrForm},
		{"01", 5000, "", api.ErrForm}, // the text comes before the range
		{strings.Repeat("9", 401), 0, "", api.ErrForm},
	} {
		if f, e := binary.Of(c.m, c.exp); f != c.want || e != c.e {
			t.Errorf("Of(%.30q, %d) = %q, %d; want %q, %d", c.m, c.exp, f, e, c.want, c.e)
		}
	}
}

// checkOf compares Of with the definition of the values of binary64.
func checkOf(t *testing.T, m *big.Int, exp int) {
	t.Helper()
	odd := new(big.Int).Set(m)
	sum := exp
	for odd.Bit(0) == 0 {
		odd.Rsh(odd, 1)
		sum++
	}
	want, wantE := "", api.ErrRange
	if odd.BitLen() <= 53 && sum >= -1074 && sum+odd.BitLen() <= 1024 {
		want, wantE = odd.String()+"p"+strconv.Itoa(sum), api.OK
	}
	if f, e := binary.Of(m.String(), exp); f != want || e != wantE {
		t.Fatalf("Of(%s, %d) = %q, %d; want %q, %d", m, exp, f, e, want, wantE)
	}
}

func TestOfLongIntegers(t *testing.T) { // P5.1
	for _, odd := range []int64{1, 3, -5, 255, -257, 1<<52 + 1, 1<<53 - 1, 1<<53 + 1, 1<<55 - 1, 1<<56 + 1} {
		for shift := 0; shift <= 1270; shift += 1 + shift/9 {
			m := new(big.Int).Lsh(big.NewInt(odd), uint(shift))
			size := m.BitLen()
			for _, exp := range []int{0, -shift, -1074 - shift, -1075 - shift, -1073 - shift, 1023 - size, 1024 - size, 1025 - size} {
				checkOf(t, m, exp)
			}
		}
	}
	source := rand.New(rand.NewSource(6))
	for range 3000 {
		m := big.NewInt(1 + source.Int63n(1<<54))
		m.Lsh(m, uint(source.Intn(1200)))
		checkOf(t, m, source.Intn(4000)-2700)
	}
}

func TestParts(t *testing.T) { // P5.1
	for _, c := range []struct {
		f, m string
		exp  int
		e    api.Errno
	}{
		{"3p-1", "3", -1, api.OK},
		{"-3p-1", "-3", -1, api.OK},
		{"0p0", "0", 0, api.OK},
		{"-0p0", "0", 0, api.OK},
		{"1p-1074", "1", -1074, api.OK},
		{"-9007199254740991p971", "-9007199254740991", 971, api.OK},
		{"inf", "", 0, api.ErrKind},
		{"-inf", "", 0, api.ErrKind},
		{"nan", "", 0, api.ErrKind},
		{"2p0", "", 0, api.ErrForm},
		{"-nan", "", 0, api.ErrForm},
	} {
		if m, exp, e := binary.Parts(c.f); m != c.m || exp != c.exp || e != c.e {
			t.Errorf("Parts(%q) = %q, %d, %d; want %q, %d, %d", c.f, m, exp, e, c.m, c.exp, c.e)
		}
	}
	for _, x := range numbers(200) {
		if x == 0 || math.IsInf(x, 0) {
			continue
		}
		m, exp, e := binary.Parts(textOf(x))
		if m+"p"+strconv.Itoa(exp) != textOf(x) || e != api.OK {
			t.Fatalf("Parts(%q) = %q, %d, %d", textOf(x), m, exp, e)
		}
		if f, e := binary.Of(m, exp); f != textOf(x) || e != api.OK {
			t.Fatalf("Of(%q, %d) = %q, %d", m, exp, f, e)
		}
	}
}

func TestCmp(t *testing.T) { // P5.1
	list := numbers(4)
	texts := make([]string, len(list))
	for i, x := range list {
		texts[i] = textOf(x)
	}
	source := rand.New(rand.NewSource(9))
	for i, x := range list {
		others := []int{0, 1, i, min(i+1, len(list)-1), min(i+2, len(list)-1)} // the zeros, itself, its opposite and a neighbor
		for range 100 {
			others = append(others, source.Intn(len(list)))
		}
		for _, j := range others {
			want := 0
			switch {
			case x < list[j]:
				want = -1
			case x > list[j]:
				want = 1
			}
			if c, ok := binary.Cmp(texts[i], texts[j]); c != want || !ok {
				t.Fatalf("Cmp(%q, %q) = %d, %v; want %d", texts[i], texts[j], c, ok, want)
			}
		}
	}
	for _, c := range []struct {
		a, b string
		want int
	}{
		{"0p0", "-0p0", 0}, {"-0p0", "0p0", 0}, {"-0p0", "-0p0", 0}, {"-0p0", "1p-1074", -1}, {"-0p0", "-1p-1074", 1},
		{"inf", "inf", 0}, {"-inf", "-inf", 0}, {"-inf", "inf", -1}, {"inf", "9007199254740991p971", 1}, {"-inf", "-9007199254740991p971", -1},
		{"3p0", "1p1", 1}, {"1p2", "3p0", 1}, {"-3p0", "-1p2", 1}, {"5p-1", "3p0", -1},
	} {
		if n, ok := binary.Cmp(c.a, c.b); n != c.want || !ok {
			t.Errorf("Cmp(%q, %q) = %d, %v; want %d", c.a, c.b, n, ok, c.want)
		}
	}
	for _, c := range [][2]string{{"nan", "nan"}, {"nan", "1p0"}, {"1p0", "nan"}, {"nan", "-inf"}, {"2p0", "1p0"}, {"1p0", "2p0"}, {"x", "nan"}} {
		if n, ok := binary.Cmp(c[0], c[1]); n != 0 || ok {
			t.Errorf("Cmp(%q, %q) = %d, %v", c[0], c[1], n, ok)
		}
	}
}

func TestWrongTexts(t *testing.T) { // P5.5
	for _, s := range wrong {
		if m, exp, e := binary.Parts(s); m != "" || exp != 0 || e != api.ErrForm {
			t.Errorf("Parts(%.30q) = %q, %d, %d", s, m, exp, e)
		}
		for _, size := range []int{16, 32, 64, 0} {
			if pattern, exact, e := binary.Bits(s, size); pattern != 0 || exact || e != api.ErrForm {
				t.Errorf("Bits(%.30q, %d) = %#x, %v, %d", s, size, pattern, exact, e)
			}
		}
		for _, pair := range [][2]string{{s, "1p0"}, {"1p0", s}, {s, s}, {s, "nan"}} {
			if c, ok := binary.Cmp(pair[0], pair[1]); c != 0 || ok {
				t.Errorf("Cmp(%.30q, %.30q) = %d, %v", pair[0], pair[1], c, ok)
			}
		}
		if d, e := binary.Decimal(s); d != "" || e != api.ErrForm {
			t.Errorf("Decimal(%.30q) = %q, %d", s, d, e)
		}
		if d, e := binary.Shortest(s); d != "" || e != api.ErrForm {
			t.Errorf("Shortest(%.30q) = %q, %d", s, d, e)
		}
	}
	for _, s := range []string{"", "0", "1", "10e0", "1e", "e1", "-0e0", "0e1", "1.5e0", "1E0", "+1e0", "1e+1", "01e0", "1e2001", "1e-2001", "1p0", "inf", "nan", " 1e0", strings.Repeat("9", 401) + "e0"} {
		if f, exact, e := binary.Nearest(s); f != "" || exact || e != api.ErrForm {
			t.Errorf("Nearest(%.30q) = %q, %v, %d", s, f, exact, e)
		}
	}
}
