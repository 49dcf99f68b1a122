package decimal_test

import (
	"math"
	"math/big"
	"math/rand"
	"regexp"
	"strconv"
	"strings"
	"testing"

	"rosetta/api"
	"rosetta/decimal"
)

// nines is the greatest coefficient.
var nines = strings.Repeat("9", api.MaxDigits)

// wrong are texts that are not canonical.
var wrong = []string{
	"", "0", "1", "-1", "e", "e1", "1e", "1e-", "-e1", "0e", "e0",
	"0e1", "0e-1", "-0e0", "0e-0", "0e00", "00e0", "1e-0", "1e00", "1e01", "1e-01", "1e+1", "+1e0", "01e0", "-01e0",
	"10e0", "-10e0", "100e-2", "1.5e0", "1E0", "1e1e1", "1e1.0", " 1e0", "1e0 ", "1 e0", "1e 0", "1_1e0", "1e0\n", "--1e0", "1e--1",
	"1e2001", "1e-2001", "1e9999", "1e" + nines, "1e-" + nines, "1e" + strings.Repeat("9", 5000), "1e9223372036854775808", "1e18446744073709551616", "1e4294967296",
	nines + "9e0", "-" + nines + "9e0", "9" + nines, "1" + strings.Repeat("0", api.MaxDigits) + "e0",
	"infe0", "nan", "0x1e1", "1p0", "٣e0", "\xffe0", "1e\x00", "1\x00e0",
}

// combinations calls visit for all strings of at most the given length over an alphabet of bytes.
func combinations(alphabet string, length int, visit func(s string)) {
	var extend func(s string)
	extend = func(s string) {
		visit(s)
		if len(s) < length {
			for i := range len(alphabet) {
				extend(s + alphabet[i:i+1])
			}
		}
	}
	extend("")
}

// exact is the number coef * 10^exp.
type exact struct {
	coef *big.Int
	exp  int
}

// exactOf returns the number of a canonical text that the test itself has chosen.
func exactOf(d string) exact {
	at := strings.Index(d, "e")
	coef, ok := new(big.Int).SetString(d[:at], 10)
	exp, err := strconv.Atoi(d[at+1:])
	if !ok || err != nil {
		panic("not a decimal: " + d)
	}
	return exact{coef, exp}
}

// tenTo returns 10^n.
func tenTo(n int) *big.Int { return new(big.Int).Exp(big.NewInt(10), big.NewInt(int64(n)), nil) }

// in returns the coefficient in units of 10^exp, for an exponent that is not greater.
func (x exact) in(exp int) *big.Int {
	return new(big.Int).Mul(x.coef, tenTo(x.exp-exp))
}

// text returns the canonical text by its definition.
func (x exact) text() (string, api.Errno) {
	if x.coef.Sign() == 0 {
		return "0e0", api.OK
	}
	coef, exp := new(big.Int).Set(x.coef), x.exp
	for {
		quotient, rest := new(big.Int).QuoRem(coef, big.NewInt(10), new(big.Int))
		if rest.Sign() != 0 {
			break
		}
		coef, exp = quotient, exp+1
	}
	switch {
	case coef.CmpAbs(tenTo(api.MaxDigits)) >= 0:
		return "", api.ErrLong
	case exp < -api.MaxExp || exp > api.MaxExp:
		return "", api.ErrRange
	}
	return coef.String() + "e" + strconv.Itoa(exp), api.OK
}

func (x exact) plus(y exact) exact {
	exp := min(x.exp, y.exp)
	return exact{new(big.Int).Add(x.in(exp), y.in(exp)), exp}
}

func (x exact) times(y exact) exact {
	return exact{new(big.Int).Mul(x.coef, y.coef), x.exp + y.exp}
}

func (x exact) cmp(y exact) int {
	exp := min(x.exp, y.exp)
	return x.in(exp).Cmp(y.in(exp))
}

// rounded returns the multiple of 10^exp that is nearest to x.
func (x exact) rounded(exp int) exact {
	if exp <= x.exp {
		return x
	}
	unit := tenTo(exp - x.exp)
	below, rest := new(big.Int).DivMod(x.coef, unit, new(big.Int))
	c := rest.Lsh(rest, 1).Cmp(unit)
	if c > 0 || c == 0 && below.Bit(0) == 1 {
		below.Add(below, big.NewInt(1))
	}
	return exact{below, exp}
}

// check compares a result with a number.
func check(t *testing.T, what, got string, e api.Errno, want exact) {
	t.Helper()
	if text, wantE := want.text(); got != text || e != wantE {
		t.Fatalf("%s = %q, %d; want %q, %d", what, got, e, text, wantE)
	}
}

// samples returns canonical texts of many sizes, the greatest and the least ones among them.
func samples(random int) []string {
	texts := []string{"0e0"}
	seen := map[string]bool{"0e0": true}
	add := func(coef *big.Int, exp int) {
		text, e := exact{coef, exp}.text()
		if e == api.OK && !seen[text] {
			seen[text] = true
			texts = append(texts, text)
		}
	}
	both := func(coef *big.Int, exp int) {
		add(coef, exp)
		add(new(big.Int).Neg(coef), exp)
	}
	for _, coef := range []int64{1, 2, 5, 9, 15, 25, 95, 99, 999} {
		for _, exp := range []int{-2000, -3, -1, 0, 1, 2, 1999, 2000} {
			both(big.NewInt(coef), exp)
		}
	}
	greatest := new(big.Int).Sub(tenTo(api.MaxDigits), big.NewInt(1))
	for _, exp := range []int{-2000, -400, -399, -1, 0, 400, 2000} {
		both(greatest, exp)
		both(big.NewInt(1), exp)
	}
	source := rand.New(rand.NewSource(4))
	for range random {
		both(new(big.Int).Rand(source, tenTo(1+source.Intn(api.MaxDigits))), source.Intn(4001)-2000)
		both(new(big.Int).Rand(source, tenTo(1+source.Intn(25))), source.Intn(60)-30)
	}
	return texts
}

func TestValid(t *testing.T) { // P4.1
	canonical := regexp.MustCompile(`^(0e0|-?([1-9]|[1-9][0-9]*[1-9])e(0|-?[1-9][0-9]*))$`)
	combinations("-+.eE0129", 6, func(s string) {
		want := canonical.MatchString(s)
		if want {
			x := exactOf(s)
			want = x.exp >= -api.MaxExp && x.exp <= api.MaxExp
		}
		if decimal.Valid(s) != want {
			t.Fatalf("Valid(%q) = %v", s, !want)
		}
	})
	for _, s := range wrong {
		if decimal.Valid(s) {
			t.Errorf("Valid(%.30q) = true", s)
		}
	}
	for _, s := range append(samples(50), nines+"e2000", "-"+nines+"e-2000", "1e2000", "-1e-2000", nines+"e1999") {
		if !decimal.Valid(s) {
			t.Errorf("Valid(%q) = false", s)
		}
	}
}

func TestValidExponents(t *testing.T) { // P4.1
	for exp := -2100; exp <= 2100; exp++ {
		want := exp >= -2000 && exp <= 2000
		if decimal.Valid("7e"+strconv.Itoa(exp)) != want || decimal.Valid("-25e"+strconv.Itoa(exp)) != want {
			t.Errorf("Valid with the exponent %d is not %v", exp, want)
		}
	}
}

func TestOf(t *testing.T) { // P4.1
	for _, c := range []struct {
		coef string
		exp  int
		want string
		e    api.Errno
	}{
		{"-1200", 3, "-12e5", api.OK},
		{"0", 5, "0e0", api.OK},
		{"0", math.MaxInt, "0e0", api.OK},
		{"0", math.MinInt, "0e0", api.OK},
		{"15", -1, "15e-1", api.OK},
		{"1", 2000, "1e2000", api.OK},
		{"1", 2001, "", api.ErrRange},
		{"1", -2001, "", api.ErrRange},
		{"10", 1999, "1e2000", api.OK},
		{"10", 2000, "", api.ErrRange},
		{"10", -2001, "1e-2000", api.OK},
		{"-100", -2002, "-1e-2000", api.OK},
		{"100", -2003, "", api.ErrRange},
		{"10", math.MaxInt, "", api.ErrRange},
		{"10", math.MinInt, "", api.ErrRange},
		{"1" + strings.Repeat("0", 399), math.MaxInt, "", api.ErrRange},
		{"1" + strings.Repeat("0", 399), math.MaxInt - 398, "", api.ErrRange},
		{"1" + strings.Repeat("0", 399), -2399, "1e-2000", api.OK},
		{nines, 2000, nines + "e2000", api.OK},
		{"-" + nines, -2000, "-" + nines + "e-2000", api.OK},
		{nines + "0", 0, "", api.ErrForm},
		{"01", 0, "", api.ErrForm},
		{"-0", 0, "", api.ErrForm},
		{"+1", 0, "", api.ErrForm},
		{"", 0, "", api.ErrForm},
		{"-", 0, "", api.ErrForm},
		{"1e0", 0, "", api.ErrForm},
		{"1.5", 0, "", api.ErrForm},
		{" 1", 0, "", api.ErrForm},
		{"x", 2001, "", api.ErrForm}, // the form is checked before the range
	} {
		if d, e := decimal.Of(c.coef, c.exp); d != c.want || e != c.e {
			t.Errorf("Of(%.20q, %d) = %.20q, %d; want %.20q, %d", c.coef, c.exp, d, e, c.want, c.e)
		}
	}
	for coef := int64(-1030); coef <= 1030; coef++ {
		for _, exp := range []int{-2003, -2000, -7, 0, 4, 1998, 2000} {
			d, e := decimal.Of(strconv.FormatInt(coef, 10), exp)
			check(t, "Of", d, e, exact{big.NewInt(coef), exp})
		}
	}
}

func TestParts(t *testing.T) { // P4.1
	for _, d := range samples(50) {
		x := exactOf(d)
		coef, exp, e := decimal.Parts(d)
		if coef != x.coef.String() || exp != x.exp || e != api.OK {
			t.Fatalf("Parts(%s) = %q, %d, %d", d, coef, exp, e)
		}
		if back, e := decimal.Of(coef, exp); back != d || e != api.OK {
			t.Fatalf("Of(Parts(%s)) = %q, %d", d, back, e)
		}
	}
}

// numerals are the texts that Parse reads.
var numerals = regexp.MustCompile(`^(-?)(0|[1-9][0-9]*)(?:\.([0-9]+))?(?:[eE]([+-]?[0-9]+))?$`)

// checkParse compares Parse with the definition; the exponent of a numeral must have few digits.
func checkParse(t *testing.T, s string) {
	t.Helper()
	d, e := decimal.Parse(s)
	parts := numerals.FindStringSubmatch(s)
	if parts == nil {
		if d != "" || e != api.ErrForm {
			t.Fatalf("Parse(%.40q) = %.40q, %d; want ErrForm", s, d, e)
		}
		return
	}
	coef, _ := new(big.Int).SetString(parts[1]+parts[2]+parts[3], 10)
	exp := 0
	if parts[4] != "" {
		exp, _ = strconv.Atoi(parts[4])
	}
	check(t, "Parse of "+s, d, e, exact{coef, exp - len(parts[3])})
}

func TestParseExamples(t *testing.T) { // P4.2
	for _, c := range [][2]string{
		{"-1.50", "-15e-1"}, {"1E+2", "1e2"}, {"0.000", "0e0"}, {"-0", "0e0"}, {"-0.0e-5", "0e0"}, {"0e99", "0e0"}, {"1.0", "1e0"}, {"-120", "-12e1"},
		{"2.5e-3", "25e-4"}, {"1e05", "1e5"}, {"1e-0", "1e0"}, {"10.010", "1001e-2"}, {"0.001", "1e-3"}, {"0.5E2", "5e1"}, {"100e-2", "1e0"},
	} {
		if d, e := decimal.Parse(c[0]); d != c[1] || e != api.OK {
			t.Errorf("Parse(%q) = %q, %d; want %q", c[0], d, e, c[1])
		}
	}
	for _, s := range []string{
		"", "01", "1.", ".5", "+1", "-", "--1", "-01", "00", "00.5", "-.5", "1.e1", "1e", "1e+", "1e-", "1e+-1", "1e1.5", "1.2.3", "1e1e1", "e1", " 1", "1 ", "1\n",
		"1_0", "1,5", "0x1", "inf", "nan", "-inf", "Infinity", "1d", "1f", "1e0x", "1.5-", "1/2", "1:", "１", "٣", "1.٣", "\xff", "1\x00",
		"1" + strings.Repeat("0", 500) + "x", nines + nines + ".", "1e99999 ", // the form is checked before the length and the range
	} {
		if d, e := decimal.Parse(s); d != "" || e != api.ErrForm {
			t.Errorf("Parse(%.20q) = %q, %d; want ErrForm", s, d, e)
		}
	}
}

func TestParseOfShortTexts(t *testing.T) { // P4.2
	combinations("-+.eE 019", 6, func(s string) { checkParse(t, s) })
	combinations("5", 30, func(s string) {
		for _, exp := range []string{"", "e2", "E-1", ".0", ".50e+3"} {
			checkParse(t, "-"+s+exp)
		}
	})
	for c := range 256 {
		checkParse(t, string([]byte{byte(c)}))
		checkParse(t, string([]byte{'1', byte(c)}))
		checkParse(t, string([]byte{'1', byte(c), '2'}))
		checkParse(t, string([]byte{'1', '.', '2', byte(c), '3'}))
		checkParse(t, string([]byte{'1', 'e', byte(c), '3'}))
	}
}

func TestParseLimits(t *testing.T) { // P4.2
	zeros := strings.Repeat("0", 3000)
	for _, s := range []string{
		nines, "-" + nines, nines + "9", nines + "0", nines + zeros[:2000], nines + zeros[:2001], nines + "." + zeros, "0." + zeros[:1600] + nines, "0." + zeros[:1601] + nines,
		nines[:200] + "." + nines[:200], nines[:200] + "." + nines[:201], "1" + zeros[:399] + "1", "1" + zeros[:398] + "1", "1." + zeros[:398] + "1", "1." + zeros[:399] + "1",
		"1e2000", "1e2001", "1e-2000", "1e-2001", "10e1999", "10e2000", "0.1e2001", "0.1e2002", "100e-2002", "100e-2003", "1.0e-2000", "0.1e-1999", "0.1e-2000",
		"1" + zeros + "e-1000", "1" + zeros + "e-1001", "1" + zeros + "e-5000", "1" + zeros + "e-5001", "0." + zeros + "1e1001", "0." + zeros + "1e1000", "0." + zeros + "1e5001", "0." + zeros + "1e5002",
		nines + "9e99999", nines + "9e-99999", nines + "e99999", // the length is checked before the range
		"0." + zeros, "-0." + zeros + "e50", "5e000000000002000", "5e-0000000000000",
	} {
		checkParse(t, s)
	}
	huge := strings.Repeat("9", 10000)
	for _, c := range []struct {
		s, want string
		e       api.Errno
	}{
		{"0e" + huge, "0e0", api.OK},
		{"-0.00e-" + huge, "0e0", api.OK},
		{"1e" + huge, "", api.ErrRange},
		{"1e-" + huge, "", api.ErrRange},
		{nines + "e" + huge, "", api.ErrRange},
		{nines + "9e-" + huge, "", api.ErrLong},
		{"1e18446744073709551616", "", api.ErrRange},
		{"1e18446744073709551617", "", api.ErrRange},
		{"1e-18446744073709551617", "", api.ErrRange},
		{"1e9223372036854775807", "", api.ErrRange},
		{"1e-9223372036854775808", "", api.ErrRange},
		{"1e4294967297", "", api.ErrRange},
		{"0." + strings.Repeat("0", 99999) + "7e100003", "7e3", api.OK},
		{"7" + strings.Repeat("0", 100000) + "E-100003", "7e-3", api.OK},
	} {
		if d, e := decimal.Parse(c.s); d != c.want || e != c.e {
			t.Errorf("Parse(%.20q) = %.20q, %d; want %q, %d", c.s, d, e, c.want, c.e)
		}
	}
}

// plain returns the plain form by its definition.
func plain(x exact) string {
	if x.exp >= 0 {
		return x.in(0).String() + ".0"
	}
	return new(big.Rat).SetFrac(x.coef, tenTo(-x.exp)).FloatString(-x.exp)
}

// scientific returns the scientific form by its definition.
func scientific(x exact) string {
	digits := new(big.Int).Abs(x.coef).String()
	text := strings.Replace(digits[:1]+"."+digits[1:], ".", "."[:min(1, len(digits)-1)], 1) + "e" + strconv.Itoa(x.exp+len(digits)-1)
	if x.coef.Sign() < 0 {
		return "-" + text
	}
	return text
}

// countDigits returns the number of digits of a text.
func countDigits(s string) int {
	return len(strings.Map(func(r rune) rune {
		if r >= '0' && r <= '9' {
			return r
		}
		return -1
	}, s))
}

// checkText compares Text with the definition, and reads it again.
func checkText(t *testing.T, d string) {
	t.Helper()
	x := exactOf(d)
	want := plain(x)
	if countDigits(want) > 20 {
		want = scientific(x)
	}
	s := decimal.Text(d)
	if s != want {
		t.Fatalf("Text(%s) = %q; want %q", d, s, want)
	}
	if back, e := decimal.Parse(s); back != d || e != api.OK {
		t.Fatalf("Parse(%s) = %q, %d; want %s", s, back, e, d)
	}
	if !strings.ContainsAny(s, ".e") {
		t.Fatalf("Text(%s) = %q contains neither a point nor an e", d, s)
	}
}

func TestTextExamples(t *testing.T) { // P4.2
	digits := "12345678901234567891234567"
	for _, c := range [][2]string{
		{"1e0", "1.0"}, {"25e-3", "0.025"}, {"15e29", "1.5e30"}, {"1e19", "1e19"}, {"1e18", "1000000000000000000.0"}, {"-1e18", "-1000000000000000000.0"}, {"-1e19", "-1e19"},
		{"0e0", "0.0"}, {"-15e-1", "-1.5"}, {"1e-19", "0.0000000000000000001"}, {"1e-20", "1e-20"}, {"-25e-20", "-2.5e-19"}, {"25e-19", "0.0000000000000000025"}, {"-9e-1", "-0.9"},
		{digits[:20] + "e-1", digits[:19] + "." + digits[19:20]},
		{digits[:19] + "e-19", "0." + digits[:19]},
		{digits[:19] + "e-18", "1." + digits[1:19]},
		{digits[:19] + "e0", digits[:19] + ".0"},
		{digits[:21] + "e-1", digits[:1] + "." + digits[1:21] + "e19"},
		{"-" + digits + "e-3", "-1." + digits[1:] + "e22"},
		{digits + "e-25", "1." + digits[1:] + "e0"},
		{"1e2000", "1e2000"}, {"-1e-2000", "-1e-2000"}, {"11e2000", "1.1e2001"},
	} {
		if s := decimal.Text(c[0]); s != c[1] {
			t.Errorf("Text(%s) = %q; want %q", c[0], s, c[1])
		}
	}
}

func TestText(t *testing.T) { // P4.2, P4.5
	for _, d := range samples(100) {
		checkText(t, d)
	}
	digits := "1234567890123456789123456"
	for n := 1; n <= 24; n++ {
		if digits[n-1] == '0' {
			continue
		}
		for exp := -30; exp <= 30; exp++ {
			checkText(t, digits[:n]+"e"+strconv.Itoa(exp))
			checkText(t, "-"+digits[:n]+"e"+strconv.Itoa(exp))
		}
	}
}

func TestOperations(t *testing.T) { // P4.3, P4.5
	texts := samples(15)
	for _, a := range texts {
		x := exactOf(a)
		for _, b := range texts {
			y := exactOf(b)
			c := decimal.Cmp(a, b)
			if c != x.cmp(y) || (c == 0) != (a == b) {
				t.Fatalf("Cmp(%s, %s) = %d", a, b, c)
			}
			sum, e := decimal.Add(a, b)
			check(t, "Add of "+a+" and "+b, sum, e, x.plus(y))
			product, e := decimal.Mul(a, b)
			check(t, "Mul of "+a+" and "+b, product, e, x.times(y))
		}
	}
}

func TestOperationsOnSmallNumbers(t *testing.T) { // P4.3
	var texts []string
	for coef := int64(-27); coef <= 27; coef++ {
		for exp := -3; exp <= 3; exp++ {
			if d, _ := (exact{big.NewInt(coef), exp}).text(); coef%10 != 0 {
				texts = append(texts, d)
			}
		}
	}
	for _, a := range append(texts, "0e0") {
		x := exactOf(a)
		for _, b := range texts {
			y := exactOf(b)
			if c := decimal.Cmp(a, b); c != x.cmp(y) {
				t.Fatalf("Cmp(%s, %s) = %d", a, b, c)
			}
			sum, e := decimal.Add(a, b)
			check(t, "Add of "+a+" and "+b, sum, e, x.plus(y))
			product, e := decimal.Mul(a, b)
			check(t, "Mul of "+a+" and "+b, product, e, x.times(y))
		}
	}
}

func TestCmpExamples(t *testing.T) { // P4.3
	ascending := []string{"-" + nines + "e2000", "-1e2000", "-2e1", "-15e-1", "-149e-2", "-1e0", "-1e-1", "-1e-2000", "0e0", "1e-2000", "9e-2", "1e-1", "1e0", "101e-2", "11e-1", "2e0", "19e0", "1e2", "12345e-2", "1e2000", nines + "e2000"}
	for i, a := range ascending {
		for j, b := range ascending {
			want := 0
			if i < j {
				want = -1
			} else if i > j {
				want = 1
			}
			if c := decimal.Cmp(a, b); c != want {
				t.Errorf("Cmp(%.20s, %.20s) = %d; want %d", a, b, c, want)
			}
		}
	}
}

func TestLimitsOfOperations(t *testing.T) { // P4.3
	power := func(base, exp int64) string {
		return new(big.Int).Exp(big.NewInt(base), big.NewInt(exp), nil).String()
	}
	for _, c := range []struct {
		what      string
		operation func(a, b string) (string, api.Errno)
		a, b      string
		want      string
		e         api.Errno
	}{
		{"Add", decimal.Add, "1e400", "-1e0", nines + "e0", api.OK}, // the minuend has a digit more than the result
		{"Add", decimal.Add, "-1e0", "1e400", nines + "e0", api.OK},
		{"Add", decimal.Add, "1e400", "1e0", "", api.ErrLong},
		{"Add", decimal.Add, "1e401", "-1e0", "", api.ErrLong},
		{"Add", decimal.Add, nines + "e0", "1e0", "1e400", api.OK},
		{"Add", decimal.Add, nines + "e0", "2e0", "", api.ErrLong},
		{"Add", decimal.Add, "1e2000", "1e0", "", api.ErrLong},
		{"Add", decimal.Add, "1e2000", "1e-2000", "", api.ErrLong},
		{"Add", decimal.Add, "-1e2000", "1e-2000", "", api.ErrLong},
		{"Add", decimal.Add, "1e2000", "-1e2000", "0e0", api.OK},
		{"Add", decimal.Add, "5e2000", "5e2000", "", api.ErrRange},
		{"Add", decimal.Add, "5e2000", "4e2000", "9e2000", api.OK},
		{"Add", decimal.Add, nines + "e2000", "1e2000", "", api.ErrRange},
		{"Add", decimal.Add, nines + "e2000", "2e2000", "", api.ErrLong},
		{"Add", decimal.Add, "0e0", "-1e-2000", "-1e-2000", api.OK},
		{"Add", decimal.Add, "7e2000", "0e0", "7e2000", api.OK},
		{"Add", decimal.Add, "999e-1", "1e-1", "1e2", api.OK},
		{"Mul", decimal.Mul, "1e2000", "1e1", "", api.ErrRange},
		{"Mul", decimal.Mul, "1e-2000", "1e-1", "", api.ErrRange},
		{"Mul", decimal.Mul, "1e-2000", "1e2000", "1e0", api.OK},
		{"Mul", decimal.Mul, "2e-2000", "5e-1", "1e-2000", api.OK},
		{"Mul", decimal.Mul, "2e1999", "5e0", "1e2000", api.OK},
		{"Mul", decimal.Mul, "2e2000", "5e0", "", api.ErrRange},
		{"Mul", decimal.Mul, "0e0", "-1e2000", "0e0", api.OK},
		{"Mul", decimal.Mul, "-0e0", "1e0", "", api.ErrForm},
		{"Mul", decimal.Mul, power(5, 570) + "e0", "-" + power(2, 1320) + "e0", "-" + power(2, 750) + "e570", api.OK}, // the product has many zeros at its end
		{"Mul", decimal.Mul, nines + "e0", nines + "e0", "", api.ErrLong},
		{"Mul", decimal.Mul, nines + "e2000", "11e2000", "", api.ErrLong}, // the length is checked before the range
		{"Mul", decimal.Mul, nines + "e2000", "-1e0", "-" + nines + "e2000", api.OK},
		{"Mul", decimal.Mul, "-15e-1", "4e0", "-6e0", api.OK},
		{"Mul", decimal.Mul, "-15e-1", "-4e0", "6e0", api.OK},
	} {
		if d, e := c.operation(c.a, c.b); d != c.want || e != c.e {
			t.Errorf("%s(%.20s, %.20s) = %.20q, %d; want %.20q, %d", c.what, c.a, c.b, d, e, c.want, c.e)
		}
	}
}

func TestLaws(t *testing.T) { // P4.5
	texts := []string{"0e0", "1e0", "-1e0", "5e-1", "2e1", "-25e-3", "999e4", "-123456789e-9", nines[:60] + "e-20", "7e100", "-1e-100"}
	// in fails the test if an operation returns an error, which no sum or product of these texts does.
	in := func(d string, e api.Errno) string {
		if e != api.OK {
			t.Fatalf("error %d", e)
		}
		return d
	}
	for _, a := range texts {
		for _, b := range texts {
			sum, product := in(decimal.Add(a, b)), in(decimal.Mul(a, b))
			if sum != in(decimal.Add(b, a)) || product != in(decimal.Mul(b, a)) {
				t.Fatalf("%s and %s do not commute", a, b)
			}
			for _, c := range texts {
				if in(decimal.Add(sum, c)) != in(decimal.Add(a, in(decimal.Add(b, c)))) || in(decimal.Mul(product, c)) != in(decimal.Mul(a, in(decimal.Mul(b, c)))) {
					t.Fatalf("%s, %s and %s do not associate", a, b, c)
				}
				if in(decimal.Mul(sum, c)) != in(decimal.Add(in(decimal.Mul(a, c)), in(decimal.Mul(b, c)))) {
					t.Fatalf("%s, %s and %s do not distribute", a, b, c)
				}
			}
		}
	}
}

func TestRoundExamples(t *testing.T) { // P4.4
	for _, c := range []struct {
		d      string
		places int
		want   string
		e      api.Errno
	}{
		{"25e-1", 0, "2e0", api.OK}, {"35e-1", 0, "4e0", api.OK}, {"-149e-2", 1, "-15e-1", api.OK}, {"6e0", -1, "1e1", api.OK},
		{"-25e-1", 0, "-2e0", api.OK}, {"-35e-1", 0, "-4e0", api.OK}, {"251e-2", 0, "3e0", api.OK}, {"249e-2", 0, "2e0", api.OK},
		{"5e-1", 0, "0e0", api.OK}, {"-5e-1", 0, "0e0", api.OK}, {"51e-2", 0, "1e0", api.OK}, {"-51e-2", 0, "-1e0", api.OK}, {"15e-1", 0, "2e0", api.OK},
		{"5e0", -1, "0e0", api.OK}, {"15e0", -1, "2e1", api.OK}, {"9e0", -2, "0e0", api.OK}, {"51e0", -2, "1e2", api.OK}, {"-50001e0", -5, "-1e5", api.OK},
		{"995e-1", 0, "1e2", api.OK}, {"-9999e-2", 1, "-1e2", api.OK}, {"105e-1", 0, "1e1", api.OK}, {"115e-1", 0, "12e0", api.OK},
		{"1e-2000", 2000, "1e-2000", api.OK}, {"1e-2000", 1999, "0e0", api.OK}, {"6e-2000", 1999, "1e-1999", api.OK}, {"1e-2000", -2000, "0e0", api.OK},
		{"1e2000", 2000, "1e2000", api.OK}, {"1e2000", -2000, "1e2000", api.OK}, {nines + "e2000", -2000, nines + "e2000", api.OK},
		{nines + "e1999", -2000, "", api.ErrRange}, {"95e1999", -2000, "", api.ErrRange}, {"94e1999", -2000, "9e2000", api.OK}, {"-85e1999", -2000, "-8e2000", api.OK},
		{nines + "e0", -1, "1e400", api.OK}, {nines + "e-1", 0, "1e399", api.OK},
		{"0e0", 0, "0e0", api.OK}, {"0e0", -1, "0e0", api.OK}, {"0e0", -2000, "0e0", api.OK}, {"0e0", 2000, "0e0", api.OK},
		{"1e0", 2001, "", api.ErrArg}, {"1e0", -2001, "", api.ErrArg}, {"0e0", math.MaxInt, "", api.ErrArg}, {"1e0", math.MinInt, "", api.ErrArg},
		{"1", 2001, "", api.ErrForm}, // the form is checked before the places
	} {
		if d, e := decimal.Round(c.d, c.places); d != c.want || e != c.e {
			t.Errorf("Round(%.20s, %d) = %.20q, %d; want %.20q, %d", c.d, c.places, d, e, c.want, c.e)
		}
	}
}

func TestRound(t *testing.T) { // P4.4
	for _, d := range samples(100) {
		x := exactOf(d)
		places := []int{-2000, -1999, -401, -1, 0, 1, 2, 400, 1999, 2000}
		// Around all digits of the number.
		for _, kept := range []int{-2, -1, 0, 1, 2, 3} {
			places = append(places, kept-x.exp-len(new(big.Int).Abs(x.coef).String()), -x.exp-kept)
		}
		for _, p := range places {
			if p < -api.MaxExp || p > api.MaxExp {
				continue
			}
			got, e := decimal.Round(d, p)
			check(t, "Round of "+d+" to "+strconv.Itoa(p), got, e, x.rounded(-p))
		}
	}
}

func TestRoundSmallNumbers(t *testing.T) { // P4.4
	for coef := int64(-1260); coef <= 1260; coef++ {
		x := exact{big.NewInt(coef), -2}
		d, _ := x.text()
		for places := -4; places <= 3; places++ {
			got, e := decimal.Round(d, places)
			check(t, "Round of "+d+" to "+strconv.Itoa(places), got, e, x.rounded(-places))
		}
	}
}

func TestInt(t *testing.T) { // P4.4
	for _, c := range []struct {
		d, want string
		ok      bool
	}{
		{"12e2", "1200", true}, {"-12e2", "-1200", true}, {"0e0", "0", true}, {"7e0", "7", true}, {"5e-1", "", false}, {"-15e-1", "", false}, {"101e-2", "", false},
		{"1e399", "1" + strings.Repeat("0", 399), true}, {"-1e399", "-1" + strings.Repeat("0", 399), true}, {"1e400", "", false}, {"-1e400", "", false},
		{"11e398", "11" + strings.Repeat("0", 398), true}, {"11e399", "", false}, {nines + "e0", nines, true}, {nines + "e1", "", false}, {"1e2000", "", false},
	} {
		if n, ok := decimal.Int(c.d); n != c.want || ok != c.ok {
			t.Errorf("Int(%.20s) = %.20q, %v; want %.20q, %v", c.d, n, ok, c.want, c.ok)
		}
	}
	for _, d := range samples(100) {
		x := exactOf(d)
		want := ""
		if x.exp >= 0 && x.in(0).CmpAbs(tenTo(api.MaxDigits)) < 0 {
			want = x.in(0).String()
		}
		if n, ok := decimal.Int(d); n != want || ok != (want != "") {
			t.Fatalf("Int(%s) = %q, %v; want %q", d, n, ok, want)
		}
	}
}

func TestWrongArguments(t *testing.T) { // P4.1 to P4.4
	for _, s := range wrong {
		if coef, exp, e := decimal.Parts(s); coef != "" || exp != 0 || e != api.ErrForm {
			t.Errorf("Parts(%.20q) = %q, %d, %d", s, coef, exp, e)
		}
		if text := decimal.Text(s); text != "" {
			t.Errorf("Text(%.20q) = %q", s, text)
		}
		if n, ok := decimal.Int(s); n != "" || ok {
			t.Errorf("Int(%.20q) = %q, %v", s, n, ok)
		}
		for _, places := range []int{0, -1, 2000, 2001, math.MinInt} {
			if d, e := decimal.Round(s, places); d != "" || e != api.ErrForm {
				t.Errorf("Round(%.20q, %d) = %q, %d", s, places, d, e)
			}
		}
		for _, other := range []string{"0e0", "-5e3", nines + "e2000", "", s} {
			checkWrong(t, s, other)
			checkWrong(t, other, s)
		}
	}
}

// checkWrong checks the operations on two texts, one of which is not canonical.
func checkWrong(t *testing.T, a, b string) {
	t.Helper()
	if c := decimal.Cmp(a, b); c != 0 {
		t.Errorf("Cmp(%.20q, %.20q) = %d", a, b, c)
	}
	if d, e := decimal.Add(a, b); d != "" || e != api.ErrForm {
		t.Errorf("Add(%.20q, %.20q) = %.20q, %d", a, b, d, e)
	}
	if d, e := decimal.Mul(a, b); d != "" || e != api.ErrForm {
		t.Errorf("Mul(%.20q, %.20q) = %.20q, %d", a, b, d, e)
	}
}
