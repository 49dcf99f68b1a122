package codepoint_test

import (
	"math"
	"slices"
	"strings"
	"testing"

	"rosetta/api"
	"rosetta/codepoint"
)

// encoding computes the encoding of a scalar by the arithmetic of the definition, without the library.
func encoding(r rune) string {
	low := func(shift int) byte { return byte(0x80 | r>>shift&0x3f) }
	switch {
	case r < 0x80:
		return string([]byte{byte(r)})
	case r < 0x800:
		return string([]byte{byte(0xc0 | r>>6), low(0)})
	case r < 0x10000:
		return string([]byte{byte(0xe0 | r>>12), low(6), low(0)})
	}
	return string([]byte{byte(0xf0 | r>>18), low(12), low(6), low(0)})
}

// eachScalar calls visit for all scalars, in order.
func eachScalar(visit func(r rune)) {
	for r := rune(0); r <= 0x10ffff; r++ {
		if r < 0xd800 || r > 0xdfff {
			visit(r)
		}
	}
}

// reference decides by tables of all encodings and of all their proper prefixes.
type reference struct {
	scalars  map[string]rune
	prefixes map[string]bool
}

func newReference() reference {
	ref := reference{map[string]rune{}, map[string]bool{}}
	eachScalar(func(r rune) {
		s := encoding(r)
		ref.scalars[s] = r
		for n := 1; n < len(s); n++ {
			ref.prefixes[s[:n]] = true
		}
	})
	return ref
}

// split removes well-formed sequences from the beginning of s and returns their scalars and the rest.
func (ref reference) split(s string) ([]rune, string) {
	var scalars []rune
next:
	for s != "" {
		for n := 1; n <= 4 && n <= len(s); n++ {
			if r, ok := ref.scalars[s[:n]]; ok {
				scalars = append(scalars, r)
				s = s[n:]
				continue next
			}
		}
		break
	}
	return scalars, s
}

// combinations calls visit for all strings of at most the given length over an alphabet of bytes.
func combinations(alphabet string, length int, visit func(s string)) {
	var extend func(s string)
	extend = func(s string) {
		visit(s)
		if len(s) < length {
			for i := range len(alphabet) {
				extend(s + alphabet[i:i+1])
			}
		}
	}
	extend("")
}

// boundaryBytes are the bytes on both sides of every boundary of the definition.
const boundaryBytes = "\x00a\x7f\x80\x8f\x90\x9f\xa0\xbf\xc0\xc1\xc2\xdf\xe0\xe1\xec\xed\xee\xef\xf0\xf1\xf3\xf4\xf5\xff"

func TestCheckExamples(t *testing.T) { // P1.1
	for _, c := range []struct {
		s  string
		at int
	}{
		{"", -1},
		{"aé", -1},
		{"\x00", -1},
		{"a\uFFFDb", -1}, // the scalar that a range loop also yields for malformed bytes
		{"\uFFFD\xef\xbf", 3},
		{"\U0010FFFF", -1},
		{"\ued7f\u0000", -1},
		{"a\xc0\x80", 1},
		{"a\xe2\x82", 1},
		{"\xed\xa0\x80", 0},
		{"\xed\xbf\xbf", 0},
		{"\xed\x9f\xbf\xee\x80\x80", -1},
		{"\xc1\xbf", 0},
		{"\xe0\x9f\xbf", 0},
		{"\xe0\xa0\x80", -1},
		{"\xf0\x8f\xbf\xbf", 0},
		{"\xf0\x90\x80\x80", -1},
		{"\xf4\x8f\xbf\xbf", -1},
		{"\xf4\x90\x80\x80", 0},
		{"\xf5\x80\x80\x80", 0},
		{"\xf8\x88\x80\x80\x80", 0},
		{"\x80", 0},
		{"é\xff", 2},
		{"é€\U0001f600\xe2\x82a", 9},
		{"\xe2\x82\xe2\x82\xac", 0},
		{strings.Repeat("é", 40000) + "\xfe", 80000},
	} {
		at, e := codepoint.Check(c.s)
		want := api.OK
		if c.at >= 0 {
			want = api.ErrText
		}
		if at != c.at || e != want {
			t.Errorf("Check(%.20q) = %d, %d; want %d, %d", c.s, at, e, c.at, want)
		}
	}
}

func TestCheckAndDecodeOfBoundaries(t *testing.T) { // P1.1, P1.2
	ref := newReference()
	combinations(boundaryBytes, 4, func(s string) {
		scalars, rest := ref.split(s)
		wantAt, want := -1, api.OK
		if rest != "" {
			wantAt, want, scalars = len(s)-len(rest), api.ErrText, nil
		}
		if at, e := codepoint.Check(s); at != wantAt || e != want {
			t.Fatalf("Check(%q) = %d, %d; want %d, %d", s, at, e, wantAt, want)
		}
		if l, e := codepoint.Decode(s); !slices.Equal(l, scalars) || e != want {
			t.Fatalf("Decode(%q) = %x, %d; want %x, %d", s, l, e, scalars, want)
		}
	})
}

func TestEveryScalar(t *testing.T) { // P1.2, P1.4
	before := ""
	eachScalar(func(r rune) {
		s, e := codepoint.Encode([]rune{r})
		if s != encoding(r) || e != api.OK {
			t.Fatalf("Encode(%x) = %x, %d", r, s, e)
		}
		l, e := codepoint.Decode(s)
		if len(l) != 1 || l[0] != r || e != api.OK {
			t.Fatalf("Decode(%x) = %x, %d", s, l, e)
		}
		if r > 0 && before >= s {
			t.Fatalf("the encoding of %x is not after that of the scalar before it", r)
		}
		before = s
	})
}

func TestEncodeErrors(t *testing.T) { // P1.2
	for _, r := range []rune{-1, math.MinInt32, 0xd800, 0xdbff, 0xdc00, 0xdfff, 0x110000, math.MaxInt32} {
		for _, l := range [][]rune{{r}, {'a', r}, {r, 0x10ffff}, {0xfffd, 'a', r, 'b'}} {
			if s, e := codepoint.Encode(l); s != "" || e != api.ErrText {
				t.Errorf("Encode(%x) = %q, %d; want ErrText", l, s, e)
			}
		}
	}
	for _, l := range [][]rune{nil, {}, {0xd7ff, 0xe000}} {
		if _, e := codepoint.Encode(l); e != api.OK {
			t.Errorf("Encode(%x): %d", l, e)
		}
	}
}

func TestEncodeKeepsItsArgument(t *testing.T) {
	l := []rune{'a', 0xe9, 0x20ac, 'x', 'y'}
	kept := slices.Clone(l)
	s, _ := codepoint.Encode(l[:3])
	if s != "aé€" || !slices.Equal(l, kept) {
		t.Errorf("Encode = %q, argument %x", s, l)
	}
}

func TestDecodeResultsAreSeparate(t *testing.T) {
	a, _ := codepoint.Decode("abc")
	b, _ := codepoint.Decode("abc")
	a[0] = 'z'
	if b[0] != 'a' {
		t.Error("two results share memory")
	}
}

func TestInverseAndOrderOfSequences(t *testing.T) { // P1.4
	edges := []rune{0, 0x7f, 0x80, 0x7ff, 0x800, 0xd7ff, 0xe000, 0xfffd, 0xffff, 0x10000, 0x10ffff}
	lists := [][]rune{nil}
	for _, a := range edges {
		lists = append(lists, []rune{a})
		for _, b := range edges {
			lists = append(lists, []rune{a, b}, []rune{b, a, 'a'})
		}
	}
	for _, l := range lists {
		s, _ := codepoint.Encode(l)
		if back, e := codepoint.Decode(s); !slices.Equal(back, l) || e != api.OK {
			t.Fatalf("Decode(Encode(%x)) = %x, %d", l, back, e)
		}
		for _, m := range lists {
			u, _ := codepoint.Encode(m)
			if strings.Compare(s, u) != slices.Compare(l, m) {
				t.Fatalf("the encodings of %x and %x are in another order", l, m)
			}
		}
	}
}

func TestFeederExamples(t *testing.T) { // P1.3
	var zero codepoint.Feeder
	if e := zero.End(); e != api.OK {
		t.Errorf("End of the empty input: %d", e)
	}
	f, l, e := zero.Feed("\xc3")
	if len(l) != 0 || e != api.OK || f.End() != api.ErrText {
		t.Errorf("Feed of C3 = %x, %d", l, e)
	}
	g, l, e := f.Feed("\xa9")
	if !slices.Equal(l, []rune{0xe9}) || e != api.OK || g.End() != api.OK {
		t.Errorf("Feed of A9 = %x, %d", l, e)
	}
	same, l, e := f.Feed("")
	if len(l) != 0 || e != api.OK || same.End() != api.ErrText {
		t.Errorf("Feed of nothing = %x, %d", l, e)
	}
	if _, l, e := same.Feed("\xa9!"); !slices.Equal(l, []rune{0xe9, '!'}) || e != api.OK {
		t.Errorf("Feed after nothing = %x, %d", l, e)
	}
}

func TestFeederErrors(t *testing.T) { // P1.3
	for _, parts := range [][]string{
		{"\xc3", "a"},
		{"\xc3", "\xc3"},
		{"\xf4\x90"},
		{"\xf4", "\x90"},
		{"\xe0\x80"},
		{"\xed\xa0"},
		{"\xed", "\xa0"},
		{"\xf0\x8f"},
		{"\xf0", "\x90", "\x80", "a"},
		{"\xe2\x82", "a"},
		{"\xe2", "\x82", "\xc0"},
		{"\xc0"},
		{"\xf5"},
		{"\xff"},
		{"ab", "c\x80"},
		{"abc\xffdef"},
		{"abc\xe2", "\x82\xacd\xe2\xe2"},
	} {
		var f codepoint.Feeder
		last := len(parts) - 1
		for _, part := range parts[:last] {
			var e api.Errno
			if f, _, e = f.Feed(part); e != api.OK {
				t.Fatalf("%q: part %q: %d", parts, part, e)
			}
		}
		g, l, e := f.Feed(parts[last])
		if e != api.ErrText || len(l) != 0 || g.End() != api.OK {
			t.Errorf("%q: the last part = %x, %d; want ErrText, no scalars and the zero feeder", parts, l, e)
		}
	}
}

func TestFeederKeepsEarlierFeeders(t *testing.T) { // P1.3
	var zero codepoint.Feeder
	f, _, _ := zero.Feed("x\xf0\x9f")
	if _, _, e := f.Feed("y"); e != api.ErrText {
		t.Errorf("a broken sequence: %d", e)
	}
	one, _, _ := f.Feed("\x98")
	two, _, _ := f.Feed("\x99")
	for _, c := range []struct {
		f    codepoint.Feeder
		part string
		want rune
	}{{one, "\x80", 0x1f600}, {two, "\x80", 0x1f640}, {one, "\x81", 0x1f601}, {f, "\x9a\x80", 0x1f680}} {
		if _, l, e := c.f.Feed(c.part); !slices.Equal(l, []rune{c.want}) || e != api.OK {
			t.Errorf("Feed(%x) = %x, %d; want %x", c.part, l, e, c.want)
		}
	}
	if zero.End() != api.OK || f.End() != api.ErrText {
		t.Error("a feeder was changed")
	}
}

func TestFeederOfBoundaries(t *testing.T) { // P1.3, P1.4
	ref := newReference()
	combinations(boundaryBytes, 3, func(s string) {
		scalars, rest := ref.split(s)
		extensible := rest == "" || ref.prefixes[rest]
		for cut := 0; cut <= len(s); cut++ {
			checkCut(t, ref, s, cut, scalars, extensible, rest == "")
		}
	})
}

// checkCut feeds s in two parts and compares the results with those that the definition requires.
func checkCut(t *testing.T, ref reference, s string, cut int, scalars []rune, extensible, valid bool) {
	t.Helper()
	first, firstRest := ref.split(s[:cut])
	f, l, e := codepoint.Feeder{}.Feed(s[:cut])
	if firstRest != "" && !ref.prefixes[firstRest] {
		if e != api.ErrText {
			t.Fatalf("%q: the first part is refused too late", s)
		}
		return
	}
	if e != api.OK || !slices.Equal(l, first) {
		t.Fatalf("%q: the first %d bytes yield %x, %d", s, cut, l, e)
	}
	f, l, e = f.Feed(s[cut:])
	if !extensible {
		if e != api.ErrText {
			t.Fatalf("%q, cut at %d: not refused", s, cut)
		}
		return
	}
	if e != api.OK || !slices.Equal(l, scalars[len(first):]) || (f.End() == api.OK) != valid {
		t.Fatalf("%q, cut at %d: the rest yields %x, %d, End %d", s, cut, l, e, f.End())
	}
}

func TestFeederCuts(t *testing.T) { // P1.3, P1.4
	text := "a\u007fé\u07ff\u0800€\uFFFD\uffff\U00010000b\U0010ffff"
	for one := 0; one <= len(text); one++ {
		for two := one; two <= len(text); two++ {
			checkParts(t, text[:one], text[one:two], text[two:])
		}
	}
	checkParts(t, strings.Split(text, "a")...)
	var single []string
	for i := range len(text) {
		single = append(single, text[i:i+1])
	}
	checkParts(t, single...)
}

// checkParts feeds parts one after another and expects the scalars of the whole input.
func checkParts(t *testing.T, parts ...string) {
	t.Helper()
	want, _ := codepoint.Decode(strings.Join(parts, ""))
	var f codepoint.Feeder
	var got []rune
	for _, part := range parts {
		next, l, e := f.Feed(part)
		if e != api.OK {
			t.Fatalf("%q: %d", parts, e)
		}
		f, got = next, append(got, l...)
	}
	if !slices.Equal(got, want) || f.End() != api.OK {
		t.Fatalf("%q: got %x, want %x, End %d", parts, got, want, f.End())
	}
}
