// Package codepoint implements layer 1: strict UTF-8, also incrementally.
package codepoint

import (
	"strings"
	"unicode/utf8"

	"rosetta/api"
)

// Check returns -1 and OK for a valid string, and otherwise ErrText and the offset of the first byte at which no well-formed sequence begins.
func Check(s string) (int, api.Errno) {
	for at, r := range s {
		if !begins(s[at:], r) {
			return at, api.ErrText
		}
	}
	return -1, api.OK
}

// Decode returns the scalars of a valid string.
func Decode(s string) ([]rune, api.Errno) {
	if _, e := Check(s); e != api.OK {
		return nil, e
	}
	scalars := make([]rune, 0, utf8.RuneCountInString(s))
	for _, r := range s {
		scalars = append(scalars, r)
	}
	return scalars, api.OK
}

// Encode returns the concatenation of the encodings of scalars.
func Encode(l []rune) (string, api.Errno) {
	var text strings.Builder
	for _, r := range l {
		if !utf8.ValidRune(r) {
			return "", api.ErrText
		}
		text.WriteRune(r)
	}
	return text.String(), api.OK
}

// Feeder validates and decodes a string that arrives in parts. The zero Feeder has an empty input.
type Feeder struct {
	// held is the incomplete sequence at the end of the input: three bytes at most, because a fourth one completes every sequence.
	held [utf8.UTFMax - 1]byte
	size int
}

// Feed appends part to the input and returns the scalars whose encodings end within part.
func (f Feeder) Feed(part string) (Feeder, []rune, api.Errno) {
	text := string(f.held[:f.size]) + part
	var scalars []rune
	for at, r := range text {
		rest := text[at:]
		if begins(rest, r) {
			scalars = append(scalars, r)
			continue
		}
		if utf8.FullRuneInString(rest) {
			return Feeder{}, nil, api.ErrText
		}
		// An incomplete sequence reaches to the end of the text; the next part may complete it.
		return hold(rest), scalars, api.OK
	}
	return Feeder{}, scalars, api.OK
}

// End reports whether the input ends with a complete sequence.
func (f Feeder) End() api.Errno {
	if f.size > 0 {
		return api.ErrText
	}
	return api.OK
}

// hold returns a feeder whose input ends with an incomplete sequence.
func hold(sequence string) Feeder {
	var f Feeder
	f.size = copy(f.held[:], sequence)
	return f
}

// begins reports whether s begins with a well-formed sequence, given the rune that a range loop yields for it. The loop yields RuneError both for malformed bytes and for the encoding of that very scalar.
func begins(s string, r rune) bool {
	return r != utf8.RuneError || strings.HasPrefix(s, "\uFFFD")
}
