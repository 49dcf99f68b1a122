package binary_test

import (
	"math"
	"math/rand"
	"sort"
	"testing"

	"rosetta/api"
	"rosetta/binary"
)

// half returns the value of a pattern of 16 bits by its definition. The pattern after the greatest value stands for 2^16, as if there were no infinity.
func half(pattern int) float64 {
	if pattern < 1<<10 {
		return math.Ldexp(float64(pattern), -24)
	}
	return math.Ldexp(float64(1<<10+pattern%(1<<10)), pattern>>10-25)
}

// isNaN reports whether a pattern stands for a NaN.
func isNaN(pattern uint64, size int) bool {
	switch size {
	case 16:
		return pattern&0x7fff > 0x7c00
	case 32:
		return pattern&0x7fffffff > 0x7f800000
	}
	return pattern&(1<<63-1) > 0x7ff0000000000000
}

// checkPattern checks the float of a pattern, and the way back.
func checkPattern(t *testing.T, pattern uint64, size int, want float64) {
	t.Helper()
	f, e := binary.FromBits(pattern, size)
	if f != textOf(want) || e != api.OK {
		t.Fatalf("FromBits(%#x, %d) = %q, %d; want %q", pattern, size, f, e, textOf(want))
	}
	if isNaN(pattern, size) {
		return
	}
	if back, exact, e := binary.Bits(f, size); back != pattern || !exact || e != api.OK {
		t.Fatalf("Bits(%q, %d) = %#x, %v, %d; want %#x, true", f, size, back, exact, e, pattern)
	}
}

func TestFromBits(t *testing.T) { // P5.2
	for _, c := range []struct {
		bits uint64
		size int
		want string
		e    api.Errno
	}{
		{0x3ff8000000000000, 64, "3p-1", api.OK},
		{1, 16, "1p-24", api.OK},
		{1, 32, "1p-149", api.OK},
		{1, 64, "1p-1074", api.OK},
		{0, 16, "0p0", api.OK},
		{0x8000, 16, "-0p0", api.OK},
		{0x80000000, 32, "-0p0", api.OK},
		{1 << 63, 64, "-0p0", api.OK},
		{0x7c00, 16, "inf", api.OK},
		{0xfc00, 16, "-inf", api.OK},
		{0xff800000, 32, "-inf", api.OK},
		{0x7ff0000000000000, 64, "inf", api.OK},
		{0x7c01, 16, "nan", api.OK},
		{0xfe00, 16, "nan", api.OK},
		{0xffff, 16, "nan", api.OK},
		{0x7f800001, 32, "nan", api.OK},
		{0xffc00000, 32, "nan", api.OK},
		{0x7ff0000000000001, 64, "nan", api.OK},
		{math.MaxUint64, 64, "nan", api.OK},
		{1 << 16, 16, "", api.ErrRange},
		{1 << 32, 32, "", api.ErrRange},
		{math.MaxUint64, 16, "", api.ErrRange},
		{math.MaxUint64, 32, "", api.ErrRange},
		{1 << 63, 32, "", api.ErrRange},
		{0, 0, "", api.ErrArg},
		{math.MaxUint64, 8, "", api.ErrArg},
	} {
		if f, e := binary.FromBits(c.bits, c.size); f != c.want || e != c.e {
			t.Errorf("FromBits(%#x, %d) = %q, %d; want %q, %d", c.bits, c.size, f, e, c.want, c.e)
		}
	}
}

func TestSizes(t *testing.T) { // P5.2
	sizes := []int{math.MinInt, math.MaxInt, -16, -32, -64, 128, 256, 1<<32 + 16}
	for size := -1; size <= 130; size++ {
		if size != 16 && size != 32 && size != 64 {
			sizes = append(sizes, size)
		}
	}
	for _, size := range sizes {
		if f, e := binary.FromBits(0, size); f != "" || e != api.ErrArg {
			t.Errorf("FromBits(0, %d) = %q, %d", size, f, e)
		}
		if f, e := binary.FromBits(math.MaxUint64, size); f != "" || e != api.ErrArg {
			t.Errorf("FromBits of too many bits, %d, = %q, %d", size, f, e)
		}
		for _, f := range []string{"1p0", "nan", "inf", "-0p0"} {
			if pattern, exact, e := binary.Bits(f, size); pattern != 0 || exact || e != api.ErrArg {
				t.Errorf("Bits(%q, %d) = %#x, %v, %d", f, size, pattern, exact, e)
			}
		}
		if pattern, exact, e := binary.Bits("2p0", size); pattern != 0 || exact || e != api.ErrForm {
			t.Errorf("Bits of a wrong text, %d, = %#x, %v, %d", size, pattern, exact, e)
		}
	}
}

func TestEveryPatternOf16Bits(t *testing.T) { // P5.2
	for pattern := range 1 << 16 {
		magnitude := pattern % (1 << 15)
		want := half(magnitude)
		switch {
		case magnitude == 0x7c00:
			want = math.Inf(1)
		case magnitude > 0x7c00:
			want = math.NaN()
		}
		if pattern != magnitude {
			want = math.Copysign(want, -1)
		}
		checkPattern(t, uint64(pattern), 16, want)
	}
}

func TestPatternsOf32And64Bits(t *testing.T) { // P5.2
	check := func(pattern uint64) {
		low := uint32(pattern)
		checkPattern(t, uint64(low), 32, float64(math.Float32frombits(low)))
		checkPattern(t, pattern, 64, math.Float64frombits(pattern))
	}
	for exponent := range uint64(1 << 12) {
		for offset := range uint64(4) {
			check(exponent<<52 + offset - 2)
			check(exponent<<20 + offset - 2)
			check(exponent<<23 + offset - 2)
		}
	}
	source := rand.New(rand.NewSource(7))
	for range 10000 {
		check(source.Uint64())
		check(source.Uint64() >> 12)           // a subnormal
		check(source.Uint64() >> 41)           // one of 32 bits
		check(source.Uint64() << 32)           // a short significand
		check(source.Uint64()>>12 | 0x7ff<<52) // a NaN
		check(source.Uint64()>>41 | 0xff<<23)  // one of 32 bits
		check(source.Uint64()>>41 | 0x1ff<<23) // a negative one
		check(source.Uint64()>>12 | 0xfff<<52) // a negative one of 64 bits
	}
}

func TestBits(t *testing.T) { // P5.2
	for _, c := range []struct {
		f     string
		size  int
		want  uint64
		exact bool
	}{
		{"1p-24", 32, 0x33800000, true},
		{"1p16", 16, 0x7c00, false},
		{"-1p16", 16, 0xfc00, false},
		{"1p1023", 16, 0x7c00, false},
		{"-1p1023", 32, 0xff800000, false},
		{"inf", 16, 0x7c00, true},
		{"-inf", 16, 0xfc00, true},
		{"inf", 32, 0x7f800000, true},
		{"-inf", 64, 0xfff0000000000000, true},
		{"nan", 16, 0x7e00, true},
		{"nan", 32, 0x7fc00000, true},
		{"nan", 64, 0x7ff8000000000000, true},
		{"0p0", 16, 0, true},
		{"-0p0", 16, 0x8000, true},
		{"-0p0", 32, 0x80000000, true},
		{"-0p0", 64, 1 << 63, true},
		{"1p-1074", 16, 0, false},
		{"-1p-1074", 16, 0x8000, false}, // the sign of a zero that results from rounding
		{"-1p-1074", 32, 0x80000000, false},
		{"1p-25", 16, 0, false}, // halfway to the least value, and 0 is even
		{"3p-25", 16, 2, false}, // halfway between 1 and 2
		{"5p-25", 16, 2, false}, // halfway between 2 and 3
		{"3p-26", 16, 1, false}, // above a half
		{"2047p5", 16, 0x7bff, true},
		{"4095p4", 16, 0x7c00, false},  // halfway between the greatest value and 2^16
		{"65519p0", 16, 0x7bff, false}, // below that
		{"2047p-25", 16, 0x400, false}, // a subnormal number is rounded to a normal one
		{"16777215p104", 32, 0x7f7fffff, true},
		{"33554431p103", 32, 0x7f800000, false},
		{"9007199254740991p74", 32, 0x7f000000, false}, // the carry changes the exponent
		{"9007199254740991p75", 32, 0x7f800000, false},
		{"9007199254740991p971", 64, 0x7fefffffffffffff, true},
	} {
		if pattern, exact, e := binary.Bits(c.f, c.size); pattern != c.want || exact != c.exact || e != api.OK {
			t.Errorf("Bits(%q, %d) = %#x, %v, %d; want %#x, %v", c.f, c.size, pattern, exact, e, c.want, c.exact)
		}
	}
}

// check16 compares Bits with the definition: the nearest of all values, of two equally near ones the even one.
func check16(t *testing.T, x float64) {
	t.Helper()
	magnitude := math.Abs(x)
	above := sort.Search(0x7c00, func(pattern int) bool { return half(pattern) >= magnitude })
	want := above
	if above > 0 && magnitude < half(0x7c00) {
		below := above - 1
		c := (magnitude - half(below)) - (half(above) - magnitude) // exact near the middle
		if c < 0 || c == 0 && below%2 == 0 {
			want = below
		}
	}
	exact := half(want) == magnitude && want < 0x7c00 || math.IsInf(x, 0)
	if math.Signbit(x) {
		want |= 0x8000
	}
	if pattern, got, e := binary.Bits(textOf(x), 16); pattern != uint64(want) || got != exact || e != api.OK {
		t.Fatalf("Bits(%q, 16) = %#x, %v, %d; want %#x, %v", textOf(x), pattern, got, e, want, exact)
	}
}

func TestRoundingTo16Bits(t *testing.T) { // P5.2
	for pattern := range 0x7c00 {
		middle := (half(pattern) + half(pattern+1)) / 2
		for _, x := range []float64{middle, math.Nextafter(middle, 0), math.Nextafter(middle, math.Inf(1)), (middle + half(pattern)) / 2, (middle + half(pattern+1)) / 2} {
			check16(t, x)
			check16(t, -x)
		}
	}
	for _, x := range numbers(2000) {
		check16(t, x)
	}
}

func TestRoundingTo32And64Bits(t *testing.T) { // P5.2
	check := func(x float64) {
		narrow := float32(x)
		want, wantExact := uint64(math.Float32bits(narrow)), float64(narrow) == x
		if pattern, exact, e := binary.Bits(textOf(x), 32); pattern != want || exact != wantExact || e != api.OK {
			t.Fatalf("Bits(%q, 32) = %#x, %v, %d; want %#x, %v", textOf(x), pattern, exact, e, want, wantExact)
		}
		if pattern, exact, e := binary.Bits(textOf(x), 64); pattern != math.Float64bits(x) || !exact || e != api.OK {
			t.Fatalf("Bits(%q, 64) = %#x, %v, %d; want %#x", textOf(x), pattern, exact, e, math.Float64bits(x))
		}
	}
	for _, x := range numbers(3000) {
		check(x)
	}
	middle := func(pattern uint32) {
		x := (float64(math.Float32frombits(pattern)) + float64(math.Float32frombits(pattern+1))) / 2
		if !math.IsInf(x, 0) {
			for _, y := range []float64{x, math.Nextafter(x, 0), math.Nextafter(x, math.Inf(1))} {
				check(y)
				check(-y)
			}
		}
	}
	for exponent := range uint32(255) {
		for offset := range uint32(5) {
			middle(exponent<<23 + offset)
			if exponent > 0 {
				middle(exponent<<23 - offset - 1)
			}
		}
	}
	source := rand.New(rand.NewSource(8))
	for range 20000 {
		middle(source.Uint32() % 0x7f7fffff)
	}
}
