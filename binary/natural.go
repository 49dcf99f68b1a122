package binary

import (
	"cmp"
	"math/bits"
)

// natural is a natural number: its digits in base 2^32, the least significant first, without zeros at the end. No method changes its receiver.
type natural []uint32

// naturalOf returns the number with these bytes, the most significant first.
func naturalOf(magnitude string) natural {
	n := make(natural, (len(magnitude)+3)/4)
	for i := range len(magnitude) {
		place := len(magnitude) - 1 - i
		n[place/4] |= uint32(magnitude[i]) << (place % 4 * 8)
	}
	return n.trimmed()
}

// naturalOfWord returns a small number.
func naturalOfWord(word uint64) natural {
	return natural{uint32(word), uint32(word >> 32)}.trimmed()
}

// magnitude returns the bytes of n, the most significant first, perhaps after zero bytes.
func (n natural) magnitude() string {
	text := make([]byte, 4*len(n))
	for i := range len(text) {
		place := len(text) - 1 - i
		text[i] = byte(n[place/4] >> (place % 4 * 8))
	}
	return string(text)
}

// trimmed removes the zeros at the end.
func (n natural) trimmed() natural {
	size := len(n)
	for size > 0 && n[size-1] == 0 {
		size--
	}
	return n[:size]
}

// bitLength returns the number of bits of n without leading zeros.
func (n natural) bitLength() int {
	if len(n) == 0 {
		return 0
	}
	last := len(n) - 1
	return 32*last + bits.Len32(n[last])
}

// compare returns -1, 0 or 1 if n is less than, equal to, or greater than m.
func (n natural) compare(m natural) int {
	c := cmp.Compare(len(n), len(m))
	for i := len(n) - 1; i >= 0 && c == 0; i-- {
		c = cmp.Compare(n[i], m[i])
	}
	return c
}

// minus returns n - m, which must not be negative.
func (n natural) minus(m natural) natural {
	rest := make(natural, len(n))
	borrow := uint32(0)
	for i := range len(n) {
		subtrahend := uint32(0)
		if i < len(m) {
			subtrahend = m[i]
		}
		rest[i], borrow = bits.Sub32(n[i], subtrahend, borrow)
	}
	return rest.trimmed()
}

// times returns factor * n.
func (n natural) times(factor uint32) natural {
	product := make(natural, len(n)+1)
	carry := uint64(0)
	for i := range len(n) {
		column := uint64(n[i])*uint64(factor) + carry
		product[i] = uint32(column)
		carry = column >> 32
	}
	product[len(n)] = uint32(carry)
	return product.trimmed()
}

// timesFives returns 5^count * n.
func (n natural) timesFives(count int) natural {
	// The greatest power of 5 below 2^32 saves most of the steps.
	const step, power = 13, 1220703125
	for range count / step {
		n = n.times(power)
	}
	for range count % step {
		n = n.times(5)
	}
	return n
}

// shifted returns 2^count * n.
func (n natural) shifted(count int) natural {
	skipped := count / 32
	moved := make(natural, skipped+len(n)+1)
	for i := range len(n) {
		column := uint64(n[i]) << (count % 32)
		moved[skipped+i] |= uint32(column)
		moved[skipped+i+1] = uint32(column >> 32)
	}
	return moved.trimmed()
}

// ratio returns the first 63 or 64 bits of n / d, the exponent of 2 by which they are multiplied, and whether more bits follow that are not all 0. If n is 0, so are the bits; d must not be 0.
func ratio(n, d natural) (uint64, int, bool) {
	const size = 64
	shift := n.bitLength() - d.bitLength()
	n, d = n.shifted(max(-shift, 0)), d.shifted(max(shift, 0))
	// Numbers of equally many bits have a quotient between 1/2 and 2, so one of its first two bits is 1.
	m := uint64(0)
	for range size {
		m <<= 1
		if n.compare(d) >= 0 {
			n = n.minus(d)
			m++
		}
		n = n.shifted(1)
	}
	return m, shift - (size - 1), len(n) > 0
}
