package integer

import (
	"cmp"
	"slices"

	"rosetta/api"
)

// natural is the absolute value of an integer: its decimal digits as numbers from 0 to 9, the least significant first, without zeros at the end. 0 has no digits. No method changes its receiver.
type natural []byte

// trimmed removes the zeros at the end.
func (n natural) trimmed() natural {
	size := len(n)
	for size > 0 && n[size-1] == 0 {
		size--
	}
	return n[:size]
}

// at returns the digit for 10^i.
func (n natural) at(i int) int {
	if i < len(n) {
		return int(n[i])
	}
	return 0
}

// compare returns -1, 0 or 1 if n is less than, equal to, or greater than m.
func (n natural) compare(m natural) int {
	if c := cmp.Compare(len(n), len(m)); c != 0 {
		return c
	}
	for i := range len(n) {
		at := len(n) - 1 - i
		if c := cmp.Compare(n[at], m[at]); c != 0 {
			return c
		}
	}
	return 0
}

// plus returns n + m.
func (n natural) plus(m natural) natural {
	sum := make(natural, max(len(n), len(m))+1)
	carry := 0
	for i := range len(sum) {
		column := n.at(i) + m.at(i) + carry
		sum[i] = byte(column % 10)
		carry = column / 10
	}
	return sum.trimmed()
}

// minus returns n - m, which must not be negative.
func (n natural) minus(m natural) natural {
	rest := make(natural, len(n))
	borrow := 0
	for i := range len(n) {
		column := n.at(i) - m.at(i) - borrow
		borrow = 0
		if column < 0 {
			column, borrow = column+10, 1
		}
		rest[i] = byte(column)
	}
	return rest.trimmed()
}

// times returns n * m.
func (n natural) times(m natural) natural {
	product := make(natural, len(n)+len(m))
	for i := range len(n) {
		carry := 0
		for j := range len(m) {
			column := int(product[i+j]) + int(n[i])*int(m[j]) + carry
			product[i+j] = byte(column % 10)
			carry = column / 10
		}
		product[i+len(m)] = byte(carry)
	}
	return product.trimmed()
}

// divided returns the quotient and the remainder of n and m, which must not be 0.
func (n natural) divided(m natural) (natural, natural) {
	quotient := make(natural, len(n))
	var rest natural
	for i := range len(n) {
		at := len(n) - 1 - i
		rest = rest.followed(n[at])
		for rest.compare(m) >= 0 {
			rest = rest.minus(m)
			quotient[at]++
		}
	}
	return quotient.trimmed(), rest
}

// followed returns 10 * n + digit.
func (n natural) followed(digit byte) natural {
	longer := make(natural, len(n)+1)
	longer[0] = digit
	copy(longer[1:], n)
	return longer.trimmed()
}

// scaled returns factor * n + addend, for small numbers that are not negative; factor must not be 0.
func (n natural) scaled(factor, addend int) natural {
	product := make(natural, 0, len(n)+3)
	carry := addend
	for i := range len(n) {
		column := int(n[i])*factor + carry
		product = append(product, byte(column%10))
		carry = column / 10
	}
	for carry > 0 {
		product = append(product, byte(carry%10))
		carry /= 10
	}
	return product
}

// parted returns the quotient and the remainder of n and a small positive number.
func (n natural) parted(divisor int) (natural, int) {
	quotient := make(natural, len(n))
	rest := 0
	for i := range len(n) {
		at := len(n) - 1 - i
		column := rest*10 + int(n[at])
		quotient[at] = byte(column / divisor)
		rest = column % divisor
	}
	return quotient.trimmed(), rest
}

// inBase returns the digits of n in a base from 2 to 256, the most significant first; 0 has none.
func (n natural) inBase(base int) []byte {
	var digits []byte
	if base == 10 {
		digits = slices.Clone(n)
	} else {
		digits = n.converted(base)
	}
	slices.Reverse(digits)
	return digits
}

// converted returns the digits of n in a base, the least significant first.
func (n natural) converted(base int) []byte {
	var digits []byte
	for len(n) > 0 {
		quotient, digit := n.parted(base)
		digits = append(digits, byte(digit))
		n = quotient
	}
	return digits
}

// ofBase returns the number with these digits in a base from 2 to 256, the most significant first, or ErrLong if it has more than MaxDigits decimal digits.
func ofBase(digits []byte, base int) (natural, api.Errno) {
	var n natural
	for i := range len(digits) {
		n = n.scaled(base, int(digits[i]))
		// Further digits never make a number shorter, so a long source need not be read to its end.
		if len(n) > api.MaxDigits {
			return nil, api.ErrLong
		}
	}
	return n, api.OK
}
