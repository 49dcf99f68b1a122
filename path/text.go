package path

import (
	"strconv"
	"strings"

	"rosetta/api"
	"rosetta/keytext"
)

// maxIndex is the greatest index of a valid step.
const maxIndex = 999999999

// isValid reports whether a path has at most MaxParts steps, all of them valid.
func isValid(p api.Path) bool {
	if len(p) > api.MaxParts {
		return false
	}
	for _, step := range p {
		if !isValidStep(step) {
			return false
		}
	}
	return true
}

func isValidStep(step api.Step) bool {
	if step.Index < 0 || step.Index > maxIndex {
		return false
	}
	if step.Key == "" {
		return true
	}
	_, ok := keytext.Parse(step.Key)
	return ok
}

// pathText writes the texts of steps one after another.
func pathText(p api.Path) string {
	var text strings.Builder
	for _, step := range p {
		text.WriteString(stepText(step))
	}
	return text.String()
}

// stepText writes a step whose key is a key text.
func stepText(step api.Step) string {
	if step.Key == "" {
		return "[" + strconv.Itoa(step.Index) + "]"
	}
	text := "{" + step.Key + "}"
	if name, ok := nameOf(step.Key); ok {
		text = "." + name
	}
	if step.Index > 0 {
		text += "@" + strconv.Itoa(step.Index)
	}
	return text
}

// nameOf returns the text with a key text if it is a name, and whether it is one.
func nameOf(key string) (string, bool) {
	if key[0] != '"' {
		return "", false
	}
	name := key[1 : len(key)-1]
	return name, name != "" && isLetter(name[0]) && nameLength(name) == len(name)
}

// nameLength returns the number of bytes before the first one that no name has.
func nameLength(s string) int {
	length := 0
	for length < len(s) && (isLetter(s[length]) || isDigit(s[length])) {
		length++
	}
	return length
}

// isLetter reports whether a name can begin with a byte.
func isLetter(c byte) bool { return c >= 'A' && c <= 'Z' || c >= 'a' && c <= 'z' || c == '_' }

func isDigit(c byte) bool { return c >= '0' && c <= '9' }

// read divides a text into at most MaxParts parts, of which first reads the one with which a text begins, and returns the rest.
func read[Part any](s string, first func(s string) (Part, string, bool)) ([]Part, api.Errno) {
	if len(s) > api.MaxSource {
		return nil, api.ErrLong
	}
	var parts []Part
	for s != "" {
		part, rest, ok := first(s)
		if !ok {
			return nil, api.ErrSyntax
		}
		parts = append(parts, part)
		s = rest
	}
	if len(parts) > api.MaxParts {
		return nil, api.ErrMany
	}
	return parts, api.OK
}

// readStep reads the valid step with which a text begins.
func readStep(s string) (api.Step, string, bool) {
	step, rest := scanStep(s)
	// The scan finds something in every text; but each valid step has only one text.
	if !isValidStep(step) || stepText(step) != s[:len(s)-len(rest)] {
		return api.Step{}, "", false
	}
	return step, rest, true
}

// scanStep returns what the step with which a text begins can only be, and the rest.
func scanStep(s string) (api.Step, string) {
	switch s[0] {
	case '[':
		digits, rest, _ := strings.Cut(s[1:], "]")
		return api.Step{Index: number(digits)}, rest
	case '.':
		end := 1 + nameLength(s[1:])
		return scanIndex(`"`+s[1:end]+`"`, s[end:])
	case '{':
		return scanIndex(cutKey(s))
	}
	return api.Step{}, s
}

// scanIndex returns the step with a key, and the index that stands after it.
func scanIndex(key, s string) (api.Step, string) {
	if s == "" || s[0] != '@' {
		return api.Step{Key: key}, s
	}
	end := 1
	for end < len(s) && isDigit(s[end]) {
		end++
	}
	return api.Step{Index: number(s[1:end]), Key: key}, s[end:]
}

// number returns the number with some digits, and for other texts any number.
func number(digits string) int {
	n, _ := strconv.Atoi(digits)
	return n
}

// cutKey returns what stands between the brace with which a text begins and the one that closes it, and the rest. Braces within quotes do not count. In key texts, a backslash stands only within quotes.
func cutKey(s string) (string, string) {
	depth, quoted := 0, false
	for i := 0; i < len(s); i++ {
		switch c := s[i]; {
		case c == '\\':
			i++
		case c == '"':
			quoted = !quoted
		case quoted:
		case c == '{':
			depth++
		case c == '}':
			depth--
			if depth == 0 {
				return s[1:i], s[i+1:]
			}
		}
	}
	return "", ""
}
