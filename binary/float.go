package binary

import (
	"math/bits"
	"strconv"
	"strings"

	"rosetta/api"
	"rosetta/integer"
)

// The classes of floats.
const (
	finite = iota
	infinite
	nan
)

const (
	// maxBits is the number of bits of the longest significand.
	maxBits = 53
	minExp  = -1074
	// maxEnd is the greatest sum of the exponent and the number of bits of the significand.
	maxEnd = 1024
)

// float is a value of binary64: a finite one is m * 2^exp, where m is odd, or both are 0.
type float struct {
	class    int
	negative bool
	m        uint64
	exp      int
}

// newFinite returns the float m * 2^exp, without a sign.
func newFinite(m uint64, exp int) float {
	if m == 0 {
		return float{}
	}
	zeros := bits.TrailingZeros64(m)
	return float{m: m >> zeros, exp: exp + zeros}
}

// ofInteger returns the float m * 2^exp, where m is the canonical text of an integer.
func ofInteger(m string, exp int) (float, api.Errno) {
	if !integer.Valid(m) {
		return float{}, api.ErrForm
	}
	if m == "0" {
		return float{}, api.OK
	}
	magnitude := integer.Magnitude(m)
	whole := strings.TrimRight(magnitude, "\x00")
	// Nine bytes without zero bytes at the end have more than 53 bits from the first 1 to the last. The limit of exp keeps the sums below in the range of int.
	if len(whole) > 8 || exp > maxEnd {
		return float{}, api.ErrRange
	}
	size := uint64(0)
	for i := range len(whole) {
		size = size<<8 | uint64(whole[i])
	}
	x := newFinite(size, exp+8*(len(magnitude)-len(whole)))
	if length := bits.Len64(x.m); length > maxBits || x.exp < minExp || x.exp+length > maxEnd {
		return float{}, api.ErrRange
	}
	x.negative = strings.HasPrefix(m, "-")
	return x, api.OK
}

// read returns the float of a canonical text.
func read(f string) (float, bool) {
	switch f {
	case "nan":
		return float{class: nan}, true
	case "inf", "-inf":
		return float{class: infinite, negative: f == "-inf"}, true
	case "-0p0":
		return float{negative: true}, true
	}
	m, after, _ := strings.Cut(f, "p")
	exp, err := strconv.Atoi(after)
	if err != nil {
		return float{}, false
	}
	// A float has only one canonical text: any other notation of its parts is a different one.
	x, e := ofInteger(m, exp)
	return x, e == api.OK && x.text() == f
}

// readFinite returns the float of the canonical text of a finite one; other texts yield ErrForm, and other floats ErrKind.
func readFinite(f string) (float, api.Errno) {
	x, ok := read(f)
	switch {
	case !ok:
		return float{}, api.ErrForm
	case x.class != finite:
		return float{}, api.ErrKind
	}
	return x, api.OK
}

func (x float) isZero() bool { return x.class == finite && x.m == 0 }

// text returns the canonical text.
func (x float) text() string {
	switch x.class {
	case nan:
		return "nan"
	case infinite:
		return signed(x.negative, "inf")
	}
	return x.coefficient() + "p" + strconv.Itoa(x.exp)
}

// coefficient returns M of a finite float as it stands in the canonical text.
func (x float) coefficient() string {
	return signed(x.negative, strconv.FormatUint(x.m, 10))
}

// signed puts a minus sign before the text of a negative number.
func signed(negative bool, text string) string {
	if negative {
		return "-" + text
	}
	return text
}
