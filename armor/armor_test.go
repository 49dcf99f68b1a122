package armor_test

import (
	"encoding/base64"
	"encoding/hex"
	"fmt"
	"math"
	"math/rand"
	"slices"
	"strings"
	"testing"

	"rosetta/api"
	"rosetta/armor"
)

const alphabet = "ABCDEFGHIJKLMNOPQRSTUVWXYZabcdefghijklmnopqrstuvwxyz0123456789+/"

// allBytes returns a string of all bytes.
func allBytes() string {
	all := make([]byte, 256)
	for i := range all {
		all[i] = byte(i)
	}
	return string(all)
}

// samples calls visit for strings of all lengths up to 100, and for a long one.
func samples(visit func(s string)) {
	random := rand.New(rand.NewSource(8))
	for length := range 101 {
		for range 20 {
			s := make([]byte, length)
			random.Read(s)
			visit(string(s))
		}
		visit(strings.Repeat("\x00", length))
		visit(strings.Repeat("\xff", length))
	}
	visit(strings.Repeat(allBytes(), 300))
}

// surround puts a string between two others if it is valid.
func surround(before, s, after string, valid bool) string {
	if !valid {
		return ""
	}
	return before + s + after
}

// wantUnhex checks the result of Unhex, which is ErrForm for a text that is not valid.
func wantUnhex(t *testing.T, text, want string, valid bool) {
	t.Helper()
	wantE := api.ErrForm
	if valid {
		wantE = api.OK
	}
	if got, e := armor.Unhex(text); got != want || e != wantE {
		t.Fatalf("Unhex(%.40q) = %.40q, %d; want %.40q, %d", text, got, e, want, wantE)
	}
}

// wantUnbase64 checks the result of Unbase64, as wantUnhex does.
func wantUnbase64(t *testing.T, text, want string, valid bool) {
	t.Helper()
	wantE := api.ErrForm
	if valid {
		wantE = api.OK
	}
	if got, e := armor.Unbase64(text); got != want || e != wantE {
		t.Fatalf("Unbase64(%.40q) = %.40q, %d; want %.40q, %d", text, got, e, want, wantE)
	}
}

func TestHex(t *testing.T) { // P8.1
	for _, c := range [][2]string{
		{"", ""}, {"\x00\xff\x10", "00ff10"}, {"\x00", "00"}, {"\x0f\xf0", "0ff0"}, {"é", "c3a9"}, {"\x9a\xbc\xde", "9abcde"}, {"az\n", "617a0a"},
	} {
		if got := armor.Hex(c[0]); got != c[1] {
			t.Errorf("Hex(%q) = %q; want %q", c[0], got, c[1])
		}
		wantUnhex(t, c[1], c[0], true)
	}
	samples(func(s string) {
		want := hex.EncodeToString([]byte(s))
		if got := armor.Hex(s); got != want {
			t.Fatalf("Hex(%.40q) = %.40q; want %.40q", s, got, want)
		}
		wantUnhex(t, want, s, true)
	})
}

func TestUnhexOfEveryShortText(t *testing.T) { // P8.1, P8.4
	texts := map[string]string{}
	for i := range 256 {
		texts[fmt.Sprintf("%02x", i)] = string([]byte{byte(i)})
	}
	for first := range 256 {
		wantUnhex(t, string([]byte{byte(first)}), "", false)
		for second := range 256 {
			text := string([]byte{byte(first), byte(second)})
			want, valid := texts[text]
			wantUnhex(t, text, want, valid)
			wantUnhex(t, "00"+text+"ff", surround("\x00", want, "\xff", valid), valid)
			wantUnhex(t, text+"0", "", false)
		}
	}
}

func TestUnhexOfOtherTexts(t *testing.T) { // P8.1, P8.4
	for _, text := range []string{"0", "0F", "0g", "F0", "00 ", " 00", "0 0", "000", "0x00", "00\n", "é", "00FF", "00ff1", "+1", "-1", "/0", ":0", "`0", "g0", "@0", "\x000"} {
		wantUnhex(t, text, "", false)
	}
}

func TestBase64(t *testing.T) { // P8.2
	for _, c := range [][2]string{
		{"", ""}, {"M", "TQ=="}, {"Ma", "TWE="}, {"Man", "TWFu"}, {"\xff\xff\xff", "////"}, {"\xfb\xef\xbe", "++++"},
		// the vectors of RFC 4648, section 10
		{"f", "Zg=="}, {"fo", "Zm8="}, {"foo", "Zm9v"}, {"foob", "Zm9vYg=="}, {"fooba", "Zm9vYmE="}, {"foobar", "Zm9vYmFy"},
		{"\x00", "AA=="}, {"\x00\x00", "AAA="}, {"\x00\x00\x00", "AAAA"}, {"\xff", "/w=="}, {"\xff\xff", "//8="},
	} {
		if got := armor.Base64(c[0]); got != c[1] {
			t.Errorf("Base64(%q) = %q; want %q", c[0], got, c[1])
		}
		wantUnbase64(t, c[1], c[0], true)
	}
	samples(func(s string) {
		want := base64.StdEncoding.EncodeToString([]byte(s))
		if got := armor.Base64(s); got != want {
			t.Fatalf("Base64(%.40q) = %.40q; want %.40q", s, got, want)
		}
		wantUnbase64(t, want, s, true)
	})
}

func TestUnbase64OfEveryPaddedGroup(t *testing.T) { // P8.2, P8.4: texts of one and two bytes, by a table of all of them
	texts := map[string]string{}
	for first := range 256 {
		one := string([]byte{byte(first)})
		texts[base64.StdEncoding.EncodeToString([]byte(one))] = one
		for second := range 256 {
			two := one + string([]byte{byte(second)})
			texts[base64.StdEncoding.EncodeToString([]byte(two))] = two
		}
	}
	const characters = alphabet + "= \n-_.\x00\xff"
	for a := range len(characters) {
		for b := range len(characters) {
			for c := range len(characters) {
				text := string([]byte{characters[a], characters[b], characters[c], '='})
				want, valid := texts[text]
				wantUnbase64(t, text, want, valid)
			}
		}
	}
}

func TestUnbase64OfEveryCharacter(t *testing.T) { // P8.2, P8.4: each character of a whole group
	for at := range 4 {
		for c := range 256 {
			group := []byte("TWFu")
			group[at] = byte(c)
			value := strings.IndexByte(alphabet, byte(c))
			want := ""
			if value >= 0 {
				bits := 0
				for _, digit := range group {
					bits = bits<<6 | strings.IndexByte(alphabet, digit)
				}
				want = string([]byte{byte(bits >> 16), byte(bits >> 8), byte(bits)})
			}
			valid := value >= 0 // "TWF=" is none either: its unused bits are not 0
			wantUnbase64(t, string(group), want, valid)
			wantUnbase64(t, "Zm9v"+string(group)+"Zg==", surround("foo", want, "f", valid), valid)
		}
	}
}

func TestUnbase64OfOtherTexts(t *testing.T) { // P8.2, P8.4
	for _, text := range []string{
		"TR==", "TWF=", "TQ=", "TQ", "T", "TWE", "TWFuT", "TWFuTQ", "TWFuTQ=", "TQ===", "TQ====", "TWE==", "TWFu=", "TWFu==", "TWFu====",
		"TQ==TWFu", "TQ==TQ==", "TWE=TWE=", "TWFu ", " TWFu", "TW Fu", "TWFu\n", "TWFu\r\n", "TW\nFu", "TW=u", "=", "==", "===", "====", "T===", "=TWF", "TWE=\n", "TQ=\n=", "TQ= =",
		"-_-_", "TWFü", strings.Repeat("TWFu", 1000) + "TR==", strings.Repeat("=", 4000),
	} {
		wantUnbase64(t, text, "", false)
	}
}

func TestFold(t *testing.T) { // P8.3
	for _, c := range []struct {
		s     string
		width int
		want  []string
	}{
		{"abcde", 2, []string{"ab", "cd", "e"}},
		{"abcdef", 2, []string{"ab", "cd", "ef"}},
		{"abc", 1, []string{"a", "b", "c"}},
		{"abc", 3, []string{"abc"}},
		{"abc", 4, []string{"abc"}},
		{"abc", 76, []string{"abc"}},
		{"", 1, nil},
		{"", 76, nil},
		{"éa", 1, []string{"\xc3", "\xa9", "a"}},
		{"a\nb ", 2, []string{"a\n", "b "}},
		{strings.Repeat("x", 77), 76, []string{strings.Repeat("x", 76), "x"}},
		{strings.Repeat("x", 152), 76, []string{strings.Repeat("x", 76), strings.Repeat("x", 76)}},
	} {
		if got, e := armor.Fold(c.s, c.width); !slices.Equal(got, c.want) || e != api.OK {
			t.Errorf("Fold(%q, %d) = %q, %d; want %q", c.s, c.width, got, e, c.want)
		}
	}
	for _, width := range []int{0, 77, -1, 78, 1000, math.MinInt, math.MaxInt} {
		for _, s := range []string{"", "a", "abc"} {
			if got, e := armor.Fold(s, width); len(got) != 0 || e != api.ErrRange {
				t.Errorf("Fold(%q, %d) = %q, %d", s, width, got, e)
			}
		}
	}
}

func TestFoldOfEveryWidth(t *testing.T) { // P8.3, P8.4
	text := strings.Repeat(allBytes(), 2)
	for width := 1; width <= 76; width++ {
		for length := range 400 {
			s := text[:length]
			pieces, e := armor.Fold(s, width)
			if e != api.OK || len(pieces) != (length+width-1)/width {
				t.Fatalf("Fold of %d bytes, %d: %d pieces, %d", length, width, len(pieces), e)
			}
			for i, piece := range pieces {
				if want := s[i*width : min(length, (i+1)*width)]; piece != want {
					t.Fatalf("Fold of %d bytes, %d: piece %d is %q; want %q", length, width, i, piece, want)
				}
			}
			if got := armor.Unfold(pieces); got != s {
				t.Fatalf("Unfold of Fold of %d bytes, %d is %q", length, width, got)
			}
		}
	}
}

func TestUnfold(t *testing.T) { // P8.3
	for _, c := range []struct {
		pieces []string
		want   string
	}{
		{nil, ""}, {[]string{}, ""}, {[]string{""}, ""}, {[]string{"ab", "", "c"}, "abc"}, {[]string{"abc", "de", "fghij"}, "abcdefghij"}, {[]string{"\xff", "\x00"}, "\xff\x00"},
	} {
		if got := armor.Unfold(c.pieces); got != c.want {
			t.Errorf("Unfold(%q) = %q; want %q", c.pieces, got, c.want)
		}
	}
}

func TestResultsAreNew(t *testing.T) { // DOC.md, Memory
	first, _ := armor.Fold("abcde", 2)
	first[0] = "x"
	if second, _ := armor.Fold("abcde", 2); second[0] != "ab" {
		t.Errorf("a result of Fold changed: %q", second)
	}
	pieces := []string{"ab", "c"}
	armor.Unfold(pieces[:1])
	if !slices.Equal(pieces, []string{"ab", "c"}) {
		t.Errorf("Unfold changed its argument: %q", pieces)
	}
}
