package binary

import (
	"strconv"

	"rosetta/api"
	"rosetta/decimal"
)

// enough is a number of digits that distinguishes all floats: the nearest decimal with that many digits is read as the same float.
const enough = 17

// expansion is the beginning of the decimal digits of a positive number: the number is (coef + rest/unit) * 10^exp, where rest is less than unit.
type expansion struct {
	coef       uint64
	exp        int
	rest, unit natural
}

// Shortest returns, of the decimals for which Nearest returns f, the one with the fewest digits; of several ones the one closest to f, and of two equally close ones that with an even coefficient.
func Shortest(f string) (string, api.Errno) {
	x, e := readFinite(f)
	switch {
	case e != api.OK:
		return "", e
	case x.isZero() && x.negative:
		return "", api.ErrKind
	case x.isZero():
		return "0e0", api.OK
	}
	digits := expand(x)
	for range enough - 1 {
		digits = digits.next()
		closer, farther := digits.neighbors(x.negative)
		if isNearest(f, closer) {
			return closer, api.OK
		}
		// Floats below a power of 2 are denser than above, so that the farther neighbor may be the only one that is read as f.
		if isNearest(f, farther) {
			return farther, api.OK
		}
	}
	closer, _ := digits.next().neighbors(x.negative)
	return closer, api.OK
}

// isNearest reports whether f is the float that is nearest to d.
func isNearest(f, d string) bool {
	nearest, _, _ := Nearest(d)
	return nearest == f
}

// expand returns the expansion of the magnitude of a finite float other than 0 before its first digit.
func expand(x float) expansion {
	digits := expansion{
		rest: naturalOfWord(x.m).shifted(max(x.exp, 0)),
		unit: natural{1}.shifted(max(-x.exp, 0)),
	}
	for digits.rest.compare(digits.unit) >= 0 {
		digits.unit = digits.unit.times(10)
		digits.exp++
	}
	for larger := digits.rest.times(10); larger.compare(digits.unit) < 0; larger = larger.times(10) {
		digits.rest = larger
		digits.exp--
	}
	return digits
}

// next returns the expansion with one digit more.
func (x expansion) next() expansion {
	x.coef *= 10
	x.exp--
	x.rest = x.rest.times(10)
	for x.rest.compare(x.unit) >= 0 {
		x.rest = x.rest.minus(x.unit)
		x.coef++
	}
	return x
}

// neighbors returns the two decimals with the digits so far, and perhaps 1 more in the last of them, between which the number is: first the closer one, or the even one if they are equally close.
func (x expansion) neighbors(negative bool) (string, string) {
	below, above := x.decimal(x.coef, negative), x.decimal(x.coef+1, negative)
	c := x.rest.shifted(1).compare(x.unit)
	if c > 0 || c == 0 && x.coef%2 == 1 {
		return above, below
	}
	return below, above
}

// decimal returns a decimal with the exponent of x.
func (x expansion) decimal(coef uint64, negative bool) string {
	// 17 digits and an exponent of a float are within the limits of decimals.
	d, _ := decimal.Of(signed(negative, strconv.FormatUint(coef, 10)), x.exp)
	return d
}
