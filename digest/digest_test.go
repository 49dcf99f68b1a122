package digest_test

import (
	"crypto/sha256"
	"encoding/hex"
	"math/rand"
	"slices"
	"strings"
	"testing"

	"rosetta/digest"
)

const emptyDigest = "e3b0c44298fc1c149afbf4c8996fb92427ae41e4649b934ca495991b7852b855"

// reference returns the digest by the library.
func reference(s string) string {
	sum := sha256.Sum256([]byte(s))
	return hex.EncodeToString(sum[:])
}

// randomText returns a text of random bytes.
func randomText(random *rand.Rand, length int) string {
	s := make([]byte, length)
	random.Read(s)
	return string(s)
}

// wantSum checks a digest against the library's.
func wantSum(t *testing.T, got, s string) {
	t.Helper()
	if want := reference(s); got != want {
		t.Fatalf("the digest of %d bytes %.20q.. is %s; want %s", len(s), s, got, want)
	}
}

func TestSumOfKnownTexts(t *testing.T) { // P9.1: the document's example, and those that NIST publishes for FIPS 180-4
	for _, c := range [][2]string{
		{"", emptyDigest},
		{"abc", "ba7816bf8f01cfea414140de5dae2223b00361a396177a9cb410ff61f20015ad"},
		{"abcdbcdecdefdefgefghfghighijhijkijkljklmklmnlmnomnopnopq", "248d6a61d20638b8e5c026930c3e6039a33ce45964ff2167f6ecedd419db06c1"},
		{strings.Repeat("a", 1000000), "cdc76e5c9914fb9281a1c7e284d73e67f1809a48a497200e046d39ccc7112cd0"},
	} {
		if got := digest.Sum(c[0]); got != c[1] {
			t.Errorf("Sum(%.60q) = %s; want %s", c[0], got, c[1])
		}
	}
}

func TestSumOfEveryLength(t *testing.T) { // P9.1: lengths around the ends of blocks and of their padding, of bytes of all values
	random := rand.New(rand.NewSource(9))
	for length := range 300 {
		for _, s := range []string{randomText(random, length), strings.Repeat("\x00", length), strings.Repeat("\xff", length), strings.Repeat("\x80", length)} {
			wantSum(t, digest.Sum(s), s)
			wantSum(t, digest.New().Write(s).Sum(), s)
		}
	}
	for b := range 256 {
		s := string([]byte{byte(b)})
		wantSum(t, digest.Sum(s), s)
	}
}

func TestSumOfLongTexts(t *testing.T) { // P9.1: more than 2^16 bytes, and more than 2^24 bits
	random := rand.New(rand.NewSource(10))
	for _, length := range []int{200001, 1<<21 + 100} {
		s := randomText(random, length)
		wantSum(t, digest.Sum(s), s)
	}
}

func TestNoParts(t *testing.T) { // P9.1, P9.2
	for what, got := range map[string]string{
		"Sum()":             digest.Sum(),
		"Sum of no parts":   digest.Sum(nil...),
		"Sum of empty ones": digest.Sum("", "", ""),
		"New":               digest.New().Sum(),
		"the zero Hash":     digest.Hash{}.Sum(),
		"nothing written":   digest.Hash{}.Write("").Write("").Sum(),
	} {
		if got != emptyDigest {
			t.Errorf("%s: %s; want %s", what, got, emptyDigest)
		}
	}
	wantSum(t, digest.Hash{}.Write("abc").Sum(), "abc")
}

func TestEveryDivisionInThree(t *testing.T) { // P9.2
	random := rand.New(rand.NewSource(11))
	for _, length := range []int{0, 1, 7, 55, 56, 57, 63, 64, 65, 119, 120, 128, 131} {
		s := randomText(random, length)
		want := reference(s)
		for i := range length + 1 {
			for j := i; j <= length; j++ {
				if got := digest.New().Write(s[:i]).Write(s[i:j]).Write(s[j:]).Sum(); got != want {
					t.Fatalf("%d bytes, cut at %d and %d: %s; want %s", length, i, j, got, want)
				}
				if got := digest.Sum(s[:i], s[i:j], s[j:]); got != want {
					t.Fatalf("Sum of %d bytes, cut at %d and %d: %s; want %s", length, i, j, got, want)
				}
			}
		}
	}
}

func TestRandomDivisions(t *testing.T) { // P9.2
	random := rand.New(rand.NewSource(12))
	for range 2000 {
		s := randomText(random, random.Intn(1000))
		limit := 1 + random.Intn(200)
		var parts []string
		h := digest.New()
		for rest := s; rest != ""; {
			part := rest[:min(len(rest), random.Intn(limit+1))]
			rest = rest[len(part):]
			parts = append(parts, part)
			h = h.Write(part)
			// Sum in between changes nothing.
			wantSum(t, h.Sum(), s[:len(s)-len(rest)])
		}
		wantSum(t, h.Sum(), s)
		wantSum(t, digest.Sum(parts...), s)
		if h != digest.New().Write(s) {
			t.Fatalf("the Hash of %d bytes depends on their division", len(s))
		}
	}
}

func TestEarlierHashesStay(t *testing.T) { // P9.2
	random := rand.New(rand.NewSource(13))
	s := randomText(random, 200)
	var hashes []digest.Hash
	h := digest.New()
	for i := range len(s) + 1 {
		hashes = append(hashes, h)
		if i < len(s) {
			h = h.Write(s[i : i+1])
		}
	}
	for i, h := range hashes {
		// Two continuations of the same Hash do not disturb each other.
		one, other := h.Write("one"), h.Write(strings.Repeat("other", 50))
		wantSum(t, one.Sum(), s[:i]+"one")
		wantSum(t, other.Sum(), s[:i]+strings.Repeat("other", 50))
		wantSum(t, one.Write("!").Sum(), s[:i]+"one!")
		wantSum(t, h.Sum(), s[:i])
	}
}

func TestSumKeepsItsArgument(t *testing.T) { // DOC.md, Memory
	all := []string{"a", "b", "c", "d"}
	digest.Sum(all[:2]...)
	if !slices.Equal(all, []string{"a", "b", "c", "d"}) {
		t.Errorf("Sum has changed its parts: %q", all)
	}
}
