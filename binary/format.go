package binary

import "math/bits"

// format is an IEEE format: the numbers of all its bits, of those of the fraction, and of those of the exponent.
type format struct {
	size, fraction, exponent int
}

var formats = [3]format{
	{16, 10, 5},
	{32, 23, 8},
	{64, 52, 11},
}

// binary64 is the index of the format that all floats have.
const binary64 = 2

// formatOf returns the format of that size.
func formatOf(size int) (format, bool) {
	for i := range len(formats) {
		if formats[i].size == size {
			return formats[i], true
		}
	}
	return format{}, false
}

// least returns the exponent of the least positive value, which is a power of 2.
func (f format) least() int { return 2 - 1<<(f.exponent-1) - f.fraction }

// infinity returns the pattern of the positive infinity.
func (f format) infinity() uint64 { return (1<<f.exponent - 1) << f.fraction }

// decode returns the float with a pattern, which has no more bits than the format.
func (f format) decode(pattern uint64) float {
	sign := uint64(1) << (f.size - 1)
	magnitude := pattern &^ sign
	var x float
	switch {
	case magnitude > f.infinity():
		return float{class: nan}
	case magnitude == f.infinity():
		x = float{class: infinite}
	default:
		x = f.finite(magnitude)
	}
	x.negative = pattern != magnitude
	return x
}

// finite returns the float with the pattern of a finite value that is not negative.
func (f format) finite(pattern uint64) float {
	hidden := uint64(1) << f.fraction
	fraction, steps := pattern%hidden, int(pattern>>f.fraction)
	if steps == 0 {
		return newFinite(fraction, f.least())
	}
	return newFinite(hidden+fraction, f.least()+steps-1)
}

// encode returns the pattern of the value that is nearest to a float, and whether both are equal.
func (f format) encode(x float) (uint64, bool) {
	var pattern uint64
	exact := true
	switch x.class {
	case nan:
		return f.infinity() + 1<<(f.fraction-1), true
	case infinite:
		pattern = f.infinity()
	default:
		pattern, exact = f.round(x.m, x.exp, false)
	}
	if x.negative {
		pattern += 1 << (f.size - 1)
	}
	return pattern, exact
}

// round returns the pattern of the value that is nearest to m * 2^exp, and whether both are equal. If more is set, the number is greater by less than 2^exp; m must then have more bits than the significands of the format.
func (f format) round(m uint64, exp int, more bool) (uint64, bool) {
	if m == 0 {
		return 0, !more
	}
	unit := max(exp+bits.Len64(m)-f.fraction-1, f.least())
	for range exp - unit {
		m <<= 1
	}
	half, rest := false, more
	for range unit - exp {
		rest = rest || half
		half = m%2 == 1
		m >>= 1
	}
	if half && (rest || m%2 == 1) {
		m++
	}
	// The highest bit of a full significand is not stored but adds 1 to the exponent, and so does a carry. Exponents that are too great for the format are cut to one that suffices for an infinity.
	steps := min(unit-f.least(), 1<<f.exponent)
	pattern := uint64(steps)<<f.fraction + m
	if pattern >= f.infinity() {
		return f.infinity(), false
	}
	return pattern, !half && !rest
}
