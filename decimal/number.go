package decimal

import (
	"bytes"
	"cmp"
	"slices"
	"strconv"
	"strings"

	"rosetta/api"
)

// number is a coefficient times 10^exp. The coefficient is given by its sign and by its digits as characters, the most significant first. A number that has been read from a canonical text has no needless zeros at either end; one that has been calculated may have some, or no digits at all for 0. No method changes its receiver.
type number struct {
	negative bool
	digits   []byte
	exp      int
}

// newNumber returns a number whose digits stand in several texts.
func newNumber(negative bool, exp int, texts ...string) number {
	size := 0
	for _, text := range texts {
		size += len(text)
	}
	digits := make([]byte, size)
	at := 0
	for _, text := range texts {
		at += copy(digits[at:], text)
	}
	return number{negative, digits, exp}
}

// text returns the canonical text.
func (n number) text() (string, api.Errno) {
	digits := bytes.TrimLeft(n.digits, "0")
	if len(digits) == 0 {
		return "0e0", api.OK
	}
	coef := bytes.TrimRight(digits, "0")
	if len(coef) > api.MaxDigits {
		return "", api.ErrLong
	}
	zeros := len(digits) - len(coef)
	// The sum of exp and zeros may exceed the range of int.
	if n.exp < -api.MaxExp-zeros || n.exp > api.MaxExp-zeros {
		return "", api.ErrRange
	}
	return signed(n.negative, string(coef)) + "e" + strconv.Itoa(n.exp+zeros), api.OK
}

// signed puts a minus sign before the text of a negative number.
func signed(negative bool, text string) string {
	if negative {
		return "-" + text
	}
	return text
}

// plainSize returns the number of digits of the plain form.
func (n number) plainSize() int {
	if n.exp >= 0 {
		return len(n.digits) + n.exp + 1
	}
	return max(len(n.digits), 1-n.exp)
}

// plain returns the plain form without a sign.
func (n number) plain() string {
	if n.exp >= 0 {
		return string(n.digits) + strings.Repeat("0", n.exp) + ".0"
	}
	digits := string(n.spread(n.exp, n.plainSize()))
	point := len(digits) + n.exp
	return digits[:point] + "." + digits[point:]
}

// scientific returns the scientific form without a sign.
func (n number) scientific() string {
	text := string(n.digits[:1])
	if len(n.digits) > 1 {
		text += "." + string(n.digits[1:])
	}
	return text + "e" + strconv.Itoa(n.exp+len(n.digits)-1)
}

// spread returns as many digits of the coefficient in units of 10^exp as width says. It must have room for all of them, and exp must not be greater than that of n.
func (n number) spread(exp, width int) []byte {
	digits := bytes.Repeat([]byte{'0'}, width)
	end := width - (n.exp - exp)
	copy(digits[end-len(n.digits):], n.digits)
	return digits
}

// sign returns -1, 0 or 1 for a number that has been read.
func (n number) sign() int {
	switch {
	case n.digits[0] == '0':
		return 0
	case n.negative:
		return -1
	}
	return 1
}

// compare returns -1, 0 or 1 if n is less than, equal to, or greater than m. Both have been read.
func (n number) compare(m number) int {
	if c := cmp.Compare(n.sign(), m.sign()); c != 0 || n.sign() == 0 {
		return c
	}
	// Without zeros at either end, the place of the first digit decides, and after it the order of the digits.
	c := cmp.Compare(len(n.digits)+n.exp, len(m.digits)+m.exp)
	if c == 0 {
		c = compareDigits(n.digits, m.digits)
	}
	return c * n.sign()
}

// compareDigits compares digits from the first on. Of two lists that begin alike, the shorter one is less.
func compareDigits(p, q []byte) int {
	return slices.CompareFunc(p, q, func(a, b byte) int { return cmp.Compare(a, b) })
}

// plus returns n + m.
func (n number) plus(m number) number {
	exp := min(n.exp, m.exp)
	width := max(len(n.digits)+n.exp, len(m.digits)+m.exp) - exp + 1
	p, q := n.spread(exp, width), m.spread(exp, width)
	switch {
	case n.negative == m.negative:
		return number{n.negative, sumOf(p, q), exp}
	case compareDigits(p, q) < 0:
		return number{m.negative, differenceOf(q, p), exp}
	}
	return number{n.negative, differenceOf(p, q), exp}
}

// sumOf adds two lists of equally many digits, whose sum has no more digits.
func sumOf(p, q []byte) []byte {
	sum := make([]byte, len(p))
	carry := byte(0)
	for i := range len(p) {
		at := len(p) - 1 - i
		column := p[at] - '0' + q[at] - '0' + carry
		sum[at] = '0' + column%10
		carry = column / 10
	}
	return sum
}

// differenceOf subtracts q from p, which has equally many digits and is not less.
func differenceOf(p, q []byte) []byte {
	difference := make([]byte, len(p))
	borrow := byte(0)
	for i := range len(p) {
		at := len(p) - 1 - i
		column := 10 + p[at] - q[at] - borrow
		difference[at] = '0' + column%10
		borrow = 1 - column/10
	}
	return difference
}

// times returns n * m.
func (n number) times(m number) number {
	columns := make([]int, len(n.digits)+len(m.digits))
	for i, p := range n.digits {
		for j, q := range m.digits {
			columns[i+j+1] += int(p-'0') * int(q-'0')
		}
	}
	digits := make([]byte, len(columns))
	carry := 0
	for i := range len(columns) {
		at := len(columns) - 1 - i
		column := columns[at] + carry
		digits[at] = '0' + byte(column%10)
		carry = column / 10
	}
	return number{n.negative != m.negative, digits, n.exp + m.exp}
}

// rounded returns the multiple of 10^exp that is nearest to n, of two equally near ones the even multiple. n has been read.
func (n number) rounded(exp int) number {
	if exp <= n.exp {
		return n
	}
	kept := len(n.digits) - (exp - n.exp)
	nearer := number{n.negative, n.digits[:max(kept, 0)], exp}
	if n.roundsUp(kept) {
		return nearer.plus(newNumber(n.negative, exp, "1"))
	}
	return nearer
}

// roundsUp reports whether the last kept digit grows by 1 when the digits after it are dropped. With a negative number of kept digits, zeros are dropped before the first digit as well.
func (n number) roundsUp(kept int) bool {
	if kept < 0 {
		return false
	}
	// The last digit is not 0, so a half is exactly one dropped 5.
	c := compareDigits(n.digits[kept:], []byte{'5'})
	if c != 0 {
		return c > 0
	}
	return kept > 0 && (n.digits[kept-1]-'0')%2 == 1
}
