package integer_test

import (
	"math"
	"math/big"
	"math/rand"
	"regexp"
	"strings"
	"testing"

	"rosetta/api"
	"rosetta/integer"
)

// wrong are texts that are not canonical.
var wrong = []string{
	"", "-", "+", "+1", "-0", "00", "01", "-01", "--1", "1-", "-1-", " 1", "1 ", "1\n", "\t1", "1_0", "1,0", "1.0", "1e3", "0x1", "a", "ff",
	"١", "１", "\x00", "1\x00", "\xff", "1/", "1:", "−1",
	strings.Repeat("9", api.MaxDigits+1),
	"-" + strings.Repeat("9", api.MaxDigits+1),
	"1" + strings.Repeat("0", api.MaxDigits),
	"0" + strings.Repeat("9", api.MaxDigits-1),
	strings.Repeat("9", api.MaxDigits-1) + "x",
	strings.Repeat("1", 100000),
}

// combinations calls visit for all strings of at most the given length over an alphabet of bytes.
func combinations(alphabet string, length int, visit func(s string)) {
	var extend func(s string)
	extend = func(s string) {
		visit(s)
		if len(s) < length {
			for i := range len(alphabet) {
				extend(s + alphabet[i:i+1])
			}
		}
	}
	extend("")
}

// number returns the number of a text that the test itself has chosen.
func number(text string) *big.Int {
	n, ok := new(big.Int).SetString(text, 10)
	if !ok {
		panic("not a number: " + text)
	}
	return n
}

// power returns base^exp + offset.
func power(base, exp, offset int64) *big.Int {
	n := new(big.Int).Exp(big.NewInt(base), big.NewInt(exp), nil)
	return n.Add(n, big.NewInt(offset))
}

// long reports whether a number has more than MaxDigits digits.
func long(n *big.Int) bool {
	return n.CmpAbs(power(10, api.MaxDigits, 0)) >= 0
}

// samples returns texts of numbers of many sizes, the greatest and the least ones among them.
func samples(random int) []string {
	var texts []string
	seen := map[string]bool{}
	add := func(n *big.Int) {
		for _, text := range []string{n.String(), new(big.Int).Neg(n).String()} {
			if !seen[text] && !long(n) {
				seen[text] = true
				texts = append(texts, text)
			}
		}
	}
	for n := range int64(13) {
		add(big.NewInt(n))
	}
	for _, exp := range []int64{2, 3, 9, 18, 19, 200, 399, 400} {
		for offset := int64(-1); offset <= 1; offset++ {
			add(power(10, exp, offset))
		}
	}
	for _, exp := range []int64{8, 31, 63, 64, 664, 1328} {
		for offset := int64(-1); offset <= 1; offset++ {
			add(power(2, exp, offset))
		}
	}
	source := rand.New(rand.NewSource(3))
	for range random {
		add(new(big.Int).Rand(source, power(10, 1+source.Int63n(api.MaxDigits), 0)))
	}
	return texts
}

func TestValid(t *testing.T) { // P3.1
	canonical := regexp.MustCompile(`^(0|-?[1-9][0-9]*)$`)
	combinations("-+01259a. /:", 5, func(s string) {
		if got, want := integer.Valid(s), canonical.MatchString(s); got != want {
			t.Fatalf("Valid(%q) = %v", s, got)
		}
	})
	for c := range 256 {
		for _, s := range []string{string([]byte{byte(c)}), string([]byte{'1', byte(c)}), string([]byte{'-', byte(c), '0'})} {
			digit := c >= '0' && c <= '9'
			want := digit && (c != '0' || len(s) < 3)
			if got := integer.Valid(s); got != want {
				t.Fatalf("Valid(%q) = %v", s, got)
			}
		}
	}
	for _, s := range wrong {
		if integer.Valid(s) {
			t.Errorf("Valid(%.30q) = true", s)
		}
	}
}

func TestValidLengths(t *testing.T) { // P3.1
	for size := 1; size <= api.MaxDigits+2; size++ {
		digits := strings.Repeat("7", size)
		want := size <= api.MaxDigits
		if integer.Valid(digits) != want || integer.Valid("-"+digits) != want {
			t.Errorf("Valid of %d digits is not %v", size, want)
		}
	}
}

func TestParseExamples(t *testing.T) { // P3.1
	for _, c := range []struct {
		s    string
		base int
		want string
		e    api.Errno
	}{
		{"-0x1", 16, "", api.ErrForm},
		{"+00ff", 16, "255", api.OK},
		{"-0", 10, "0", api.OK},
		{"+0", 2, "0", api.OK},
		{"-000", 16, "0", api.OK},
		{"-FfAa09", 16, "-16755209", api.OK},
		{"777", 8, "511", api.OK},
		{"778", 8, "", api.ErrForm},
		{"102", 2, "", api.ErrForm},
		{"-1010", 2, "-10", api.OK},
		{"00120", 10, "120", api.OK},
		{"1a", 10, "", api.ErrForm},
		{"1g", 16, "", api.ErrForm},
		{"", 10, "", api.ErrForm},
		{"+", 10, "", api.ErrForm},
		{"-", 16, "", api.ErrForm},
		{"+-1", 10, "", api.ErrForm},
		{"-+1", 10, "", api.ErrForm},
		{"--1", 10, "", api.ErrForm},
		{"++1", 10, "", api.ErrForm},
		{" 1", 10, "", api.ErrForm},
		{"1 ", 10, "", api.ErrForm},
		{"1_0", 10, "", api.ErrForm},
		{"0b1", 2, "", api.ErrForm},
		{"0o7", 8, "", api.ErrForm},
		{"1\x00", 10, "", api.ErrForm},
		{"\x10", 10, "", api.ErrForm}, // the character of a digit but for one bit
		{"\x11", 16, "", api.ErrForm},
		{"１", 10, "", api.ErrForm},
	} {
		if n, e := integer.Parse(c.s, c.base); n != c.want || e != c.e {
			t.Errorf("Parse(%q, %d) = %q, %d; want %q, %d", c.s, c.base, n, e, c.want, c.e)
		}
	}
}

// forms are the texts that Parse reads, for each base.
var forms = map[int]*regexp.Regexp{
	2:  regexp.MustCompile(`^[+-]?[01]+$`),
	8:  regexp.MustCompile(`^[+-]?[0-7]+$`),
	10: regexp.MustCompile(`^[+-]?[0-9]+$`),
	16: regexp.MustCompile(`^[+-]?[0-9a-fA-F]+$`),
}

// checkParse compares Parse with the library's own reader.
func checkParse(t *testing.T, s string, base int) {
	t.Helper()
	want, wantE := "", api.ErrForm
	if forms[base].MatchString(s) {
		n, _ := new(big.Int).SetString(s, base)
		want, wantE = n.String(), api.OK
		if long(n) {
			want, wantE = "", api.ErrLong
		}
	}
	if n, e := integer.Parse(s, base); n != want || e != wantE {
		t.Fatalf("Parse(%.40q, %d) = %.40q, %d; want %.40q, %d", s, base, n, e, want, wantE)
	}
}

func TestParseOfShortTexts(t *testing.T) { // P3.1
	combinations("+-012789afAFgG @x_.", 4, func(s string) {
		for base := range forms {
			checkParse(t, s, base)
		}
	})
	for c := range 256 {
		for base := range forms {
			checkParse(t, string([]byte{byte(c)}), base)
			checkParse(t, string([]byte{'1', byte(c), '0'}), base)
		}
	}
}

func TestParseBases(t *testing.T) { // P3.1
	for base := -20; base <= 300; base++ {
		want := api.ErrArg
		if base == 2 || base == 8 || base == 10 || base == 16 {
			want = api.OK
		}
		if n, e := integer.Parse("1", base); e != want || e != api.OK && n != "" {
			t.Errorf("Parse in base %d = %q, %d", base, n, e)
		}
		if s, e := integer.Text("1", base); e != want || e != api.OK && s != "" {
			t.Errorf("Text in base %d = %q, %d", base, s, e)
		}
	}
	for _, base := range []int{math.MinInt, math.MaxInt, 7, 0} {
		if n, e := integer.Parse("no digits", base); n != "" || e != api.ErrArg {
			t.Errorf("Parse of another form in base %d = %q, %d; want ErrArg", base, n, e)
		}
		if s, e := integer.Text("no digits", base); s != "" || e != api.ErrArg {
			t.Errorf("Text of another form in base %d = %q, %d; want ErrArg", base, s, e)
		}
	}
}

func TestParseLengths(t *testing.T) { // P3.1
	zeros := strings.Repeat("0", 5000)
	for base := range forms {
		for _, offset := range []int64{-2, -1, 0, 1} {
			digits := power(10, api.MaxDigits, offset).Text(base)
			for _, s := range []string{digits, "-" + digits, "+" + digits, zeros + digits, "-" + zeros + digits, strings.ToUpper(digits)} {
				checkParse(t, s, base)
			}
			// The form is checked before the length.
			for _, s := range []string{digits + " ", digits + digits + "g", "-" + digits + "-"} {
				if n, e := integer.Parse(s, base); n != "" || e != api.ErrForm {
					t.Errorf("a long text of another form in base %d: %.20q, %d; want ErrForm", base, n, e)
				}
			}
		}
		checkParse(t, "-"+zeros, base)
		checkParse(t, zeros+"1", base)
		if n, e := integer.Parse(strings.Repeat("1", 1<<20), base); n != "" || e != api.ErrLong {
			t.Errorf("a million digits in base %d: %.20q, %d; want ErrLong", base, n, e)
		}
	}
}

func TestText(t *testing.T) { // P3.1
	if s, e := integer.Text("-10", 2); s != "-1010" || e != api.OK {
		t.Errorf("Text(-10, 2) = %q, %d", s, e)
	}
	for _, n := range samples(200) {
		for base := range forms {
			s, e := integer.Text(n, base)
			if want := number(n).Text(base); s != want || e != api.OK {
				t.Fatalf("Text(%s, %d) = %q, %d; want %q", n, base, s, e, want)
			}
			if back, e := integer.Parse(s, base); back != n || e != api.OK {
				t.Fatalf("Parse(%s, %d) = %q, %d; want %s", s, base, back, e, n)
			}
		}
	}
	for n := -1100; n <= 1100; n++ {
		for base := range forms {
			text := big.NewInt(int64(n))
			if s, e := integer.Text(text.String(), base); s != text.Text(base) || e != api.OK {
				t.Fatalf("Text(%d, %d) = %q, %d", n, base, s, e)
			}
		}
	}
}

// check compares a result with the expected number, or ErrLong if that has too many digits.
func check(t *testing.T, what, a, b, got string, e api.Errno, want *big.Int) {
	t.Helper()
	text, wantE := want.String(), api.OK
	if long(want) {
		text, wantE = "", api.ErrLong
	}
	if got != text || e != wantE {
		t.Fatalf("%s(%s, %s) = %q, %d; want %q, %d", what, a, b, got, e, text, wantE)
	}
}

// checkPair compares all operations on two numbers with those of the library.
func checkPair(t *testing.T, a, b string) {
	t.Helper()
	x, y := number(a), number(b)
	if c := integer.Cmp(a, b); c != x.Cmp(y) {
		t.Fatalf("Cmp(%s, %s) = %d", a, b, c)
	}
	sum, e := integer.Add(a, b)
	check(t, "Add", a, b, sum, e, new(big.Int).Add(x, y))
	difference, e := integer.Sub(a, b)
	check(t, "Sub", a, b, difference, e, new(big.Int).Sub(x, y))
	product, e := integer.Mul(a, b)
	check(t, "Mul", a, b, product, e, new(big.Int).Mul(x, y))
	quotient, rest, e := integer.DivMod(a, b)
	if y.Sign() == 0 {
		if quotient != "" || rest != "" || e != api.ErrZero {
			t.Fatalf("DivMod(%s, 0) = %q, %q, %d; want ErrZero", a, quotient, rest, e)
		}
		return
	}
	// The library rounds towards zero.
	wantQ, wantR := new(big.Int).QuoRem(x, y, new(big.Int))
	if wantR.Sign() != 0 && wantR.Sign() != y.Sign() {
		wantQ.Sub(wantQ, big.NewInt(1))
		wantR.Add(wantR, y)
	}
	check(t, "quotient of DivMod", a, b, quotient, e, wantQ)
	check(t, "remainder of DivMod", a, b, rest, e, wantR)
	q, r := number(quotient), number(rest)
	if r.Sign() != 0 && r.Sign() != y.Sign() || r.CmpAbs(y) >= 0 || q.Mul(q, y).Add(q, r).Cmp(x) != 0 {
		t.Fatalf("DivMod(%s, %s) = %s, %s", a, b, quotient, rest)
	}
}

func TestOperations(t *testing.T) { // P3.2
	texts := samples(15)
	for _, a := range texts {
		want := new(big.Int).Neg(number(a)).String()
		if n := integer.Neg(a); n != want {
			t.Fatalf("Neg(%s) = %q", a, n)
		}
		for _, b := range texts {
			checkPair(t, a, b)
		}
	}
}

func TestOperationsOnSmallNumbers(t *testing.T) { // P3.2
	for a := int64(-120); a <= 120; a++ {
		for b := int64(-25); b <= 25; b++ {
			checkPair(t, big.NewInt(a).String(), big.NewInt(b).String())
		}
	}
}

func TestDivModExamples(t *testing.T) { // P3.2
	greatest := strings.Repeat("9", api.MaxDigits)
	for _, c := range [][4]string{
		{"-7", "2", "-4", "1"},
		{"7", "-2", "-4", "-1"},
		{"-7", "-2", "3", "-1"},
		{"7", "2", "3", "1"},
		{"-6", "2", "-3", "0"},
		{"6", "-2", "-3", "0"},
		{"0", "-5", "0", "0"},
		{"-1", greatest, "-1", greatest[1:] + "8"},
		{"1", "-" + greatest, "-1", "-" + greatest[1:] + "8"},
		{"-" + greatest, "1", "-" + greatest, "0"},
		{greatest, "-1", "-" + greatest, "0"},
	} {
		if q, r, e := integer.DivMod(c[0], c[1]); q != c[2] || r != c[3] || e != api.OK {
			t.Errorf("DivMod(%s, %s) = %q, %q, %d", c[0], c[1], q, r, e)
		}
	}
}

func TestLaws(t *testing.T) { // P3.2
	texts := []string{"0", "1", "-1", "2", "-10", "999", "12345678901234567890", "-99999999999999999999", strings.Repeat("7", 130), "-1" + strings.Repeat("0", 125), strings.Repeat("9", 133)}
	// in fails the test if an operation returns an error, which no sum or product of these texts does.
	in := func(n string, e api.Errno) string {
		if e != api.OK {
			t.Fatalf("error %d", e)
		}
		return n
	}
	for _, a := range texts {
		for _, b := range texts {
			sum, product := in(integer.Add(a, b)), in(integer.Mul(a, b))
			if sum != in(integer.Add(b, a)) || product != in(integer.Mul(b, a)) {
				t.Fatalf("%s and %s do not commute", a, b)
			}
			if in(integer.Sub(sum, b)) != a || in(integer.Sub(a, b)) != in(integer.Add(a, integer.Neg(b))) {
				t.Fatalf("%s and %s: Sub is not the inverse of Add", a, b)
			}
			for _, c := range texts {
				if in(integer.Add(sum, c)) != in(integer.Add(a, in(integer.Add(b, c)))) || in(integer.Mul(product, c)) != in(integer.Mul(a, in(integer.Mul(b, c)))) {
					t.Fatalf("%s, %s and %s do not associate", a, b, c)
				}
				if in(integer.Mul(sum, c)) != in(integer.Add(in(integer.Mul(a, c)), in(integer.Mul(b, c)))) {
					t.Fatalf("%s, %s and %s do not distribute", a, b, c)
				}
			}
		}
	}
}

func TestLongResults(t *testing.T) { // P3.2
	greatest := strings.Repeat("9", api.MaxDigits)
	half := "1" + strings.Repeat("0", 200)
	for _, c := range []struct {
		what      string
		operation func(a, b string) (string, api.Errno)
		a, b      string
		want      api.Errno
	}{
		{"Add", integer.Add, greatest, "1", api.ErrLong},
		{"Add", integer.Add, "-" + greatest, "-1", api.ErrLong},
		{"Add", integer.Add, greatest, "0", api.OK},
		{"Add", integer.Add, greatest, "-1", api.OK},
		{"Sub", integer.Sub, "-" + greatest, "1", api.ErrLong},
		{"Sub", integer.Sub, greatest, "-1", api.ErrLong},
		{"Sub", integer.Sub, greatest, greatest, api.OK},
		{"Mul", integer.Mul, half, half, api.ErrLong},
		{"Mul", integer.Mul, half, half[:200], api.OK},
		{"Mul", integer.Mul, greatest, "-1", api.OK},
		{"Mul", integer.Mul, greatest, "2", api.ErrLong},
		{"Mul", integer.Mul, greatest, "-" + greatest, api.ErrLong},
		{"Mul", integer.Mul, greatest, "0", api.OK},
	} {
		n, e := c.operation(c.a, c.b)
		if e != c.want || (n == "") != (e != api.OK) {
			t.Errorf("%s of %d and %d characters = %.20q, %d; want %d", c.what, len(c.a), len(c.b), n, e, c.want)
		}
	}
}

func TestFitsExamples(t *testing.T) { // P3.3
	for _, c := range []struct {
		n    string
		bits int
		want bool
	}{
		{"-128", 8, true}, {"128", 8, false}, {"127", 8, true}, {"-129", 8, false},
		{"0", 1, true}, {"-1", 1, true}, {"1", 1, false}, {"-2", 1, false},
		{"0", 0, false}, {"0", -1, false}, {"-1", 0, false}, {"0", math.MinInt, false},
		{"9223372036854775807", 64, true}, {"9223372036854775808", 64, false},
		{"-9223372036854775808", 64, true}, {"-9223372036854775809", 64, false},
		{strings.Repeat("9", api.MaxDigits), math.MaxInt, true},
	} {
		if got := integer.Fits(c.n, c.bits); got != c.want {
			t.Errorf("Fits(%.30s, %d) = %v", c.n, c.bits, got)
		}
	}
}

func TestFits(t *testing.T) { // P3.3
	widths := []int{0, 1320, 1321, 1327, 1328, 1329, 1330, 1331, 2000}
	for bits := 1; bits <= 140; bits++ {
		widths = append(widths, bits)
	}
	texts := samples(10)
	for _, bits := range widths {
		if bits == 0 {
			continue
		}
		bound := power(2, int64(bits)-1, 0)
		least := new(big.Int).Neg(bound)
		near := []string{"0", "1", "-1"}
		for offset := int64(-2); offset <= 2; offset++ {
			near = append(near, new(big.Int).Add(bound, big.NewInt(offset)).String(), new(big.Int).Add(least, big.NewInt(offset)).String())
		}
		for _, n := range append(near, texts...) {
			x := number(n)
			want := x.Cmp(least) >= 0 && x.Cmp(bound) < 0 && !long(x)
			if got := integer.Fits(n, bits); got != want {
				t.Fatalf("Fits(%s, %d) = %v", n, bits, got)
			}
		}
	}
}

func TestMagnitude(t *testing.T) { // P3.3
	if b := integer.Magnitude("-256"); b != "\x01\x00" {
		t.Errorf("Magnitude(-256) = %x", b)
	}
	if b := integer.Magnitude("0"); b != "" {
		t.Errorf("Magnitude(0) = %x", b)
	}
	for _, n := range samples(200) {
		b := integer.Magnitude(n)
		if want := string(number(n).Bytes()); b != want {
			t.Fatalf("Magnitude(%s) = %x; want %x", n, b, want)
		}
		for _, zeros := range []int{0, 1, 5, 400} {
			if back, e := integer.OfMagnitude(strings.Repeat("\x00", zeros)+b, number(n).Sign() < 0); back != n || e != api.OK {
				t.Fatalf("OfMagnitude(%x) = %q, %d; want %s", b, back, e, n)
			}
		}
	}
}

func TestOfMagnitude(t *testing.T) { // P3.3
	combinations("\x00\x01\x0a\x7f\x80\xff", 4, func(b string) {
		n := new(big.Int).SetBytes([]byte(b))
		if got, e := integer.OfMagnitude(b, false); got != n.String() || e != api.OK {
			t.Fatalf("OfMagnitude(%x) = %q, %d", b, got, e)
		}
		if got, e := integer.OfMagnitude(b, true); got != n.Neg(n).String() || e != api.OK {
			t.Fatalf("OfMagnitude(%x), negative = %q, %d", b, got, e)
		}
	})
	for _, c := range []struct {
		n    *big.Int
		want api.Errno
	}{{power(10, api.MaxDigits, -1), api.OK}, {power(10, api.MaxDigits, 0), api.ErrLong}, {power(2, 1329, 0), api.ErrLong}, {power(2, 1<<20, 0), api.ErrLong}} {
		for _, negative := range []bool{false, true} {
			n, e := integer.OfMagnitude("\x00"+string(c.n.Bytes()), negative)
			if e != c.want || (n == "") != (e != api.OK) {
				t.Errorf("OfMagnitude of %d bits = %.20q, %d; want %d", c.n.BitLen(), n, e, c.want)
			}
		}
	}
	if n, e := integer.OfMagnitude(strings.Repeat("\x00", 1<<20)+"\x05", true); n != "-5" || e != api.OK {
		t.Errorf("OfMagnitude of many zero bytes and 5 = %q, %d", n, e)
	}
}

func TestWrongArguments(t *testing.T) { // P3.4
	for _, s := range wrong {
		for _, base := range []int{2, 8, 10, 16} {
			if text, e := integer.Text(s, base); text != "" || e != api.ErrForm {
				t.Errorf("Text(%.20q, %d) = %q, %d", s, base, text, e)
			}
		}
		if n := integer.Neg(s); n != "" {
			t.Errorf("Neg(%.20q) = %q", s, n)
		}
		if b := integer.Magnitude(s); b != "" {
			t.Errorf("Magnitude(%.20q) = %q", s, b)
		}
		for _, bits := range []int{-1, 0, 1, 8, 64, math.MaxInt} {
			if integer.Fits(s, bits) {
				t.Errorf("Fits(%.20q, %d) = true", s, bits)
			}
		}
		for _, other := range []string{"0", "5", "-5", strings.Repeat("9", api.MaxDigits), "", s} {
			checkWrong(t, s, other)
			checkWrong(t, other, s)
		}
	}
}

// checkWrong checks the operations on two texts, one of which is not canonical.
func checkWrong(t *testing.T, a, b string) {
	t.Helper()
	if c := integer.Cmp(a, b); c != 0 {
		t.Errorf("Cmp(%.20q, %.20q) = %d", a, b, c)
	}
	for _, operation := range []func(a, b string) (string, api.Errno){integer.Add, integer.Sub, integer.Mul} {
		if n, e := operation(a, b); n != "" || e != api.ErrForm {
			t.Errorf("an operation on %.20q and %.20q = %.20q, %d", a, b, n, e)
		}
	}
	// A text that is not canonical comes before a division by zero.
	if q, r, e := integer.DivMod(a, b); q != "" || r != "" || e != api.ErrForm {
		t.Errorf("DivMod(%.20q, %.20q) = %.20q, %.20q, %d", a, b, q, r, e)
	}
}
