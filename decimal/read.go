package decimal

import (
	"strconv"
	"strings"

	"rosetta/api"
	"rosetta/integer"
)

// read returns the number of a canonical text.
func read(d string) (number, bool) {
	coef, exp, _ := strings.Cut(d, "e")
	if !integer.Valid(coef) || !integer.Valid(exp) {
		return number{}, false
	}
	if strings.HasSuffix(coef, "0") && d != "0e0" {
		return number{}, false
	}
	value, err := strconv.Atoi(exp)
	if err != nil || value < -api.MaxExp || value > api.MaxExp {
		return number{}, false
	}
	digits, negative := strings.CutPrefix(coef, "-")
	return newNumber(negative, value, digits), true
}

// readNumeral returns the number of a numeral.
func readNumeral(s string) (number, bool) {
	rest, negative := strings.CutPrefix(s, "-")
	whole, rest := cutDigits(rest)
	if whole == "" || len(whole) > 1 && whole[0] == '0' {
		return number{}, false
	}
	fraction := ""
	if after, pointed := strings.CutPrefix(rest, "."); pointed {
		if fraction, rest = cutDigits(after); fraction == "" {
			return number{}, false
		}
	}
	// The digits move the exponent by less than the length of s. An exponent that is cut to this limit therefore stays out of range, unless the number is 0.
	exp, ok := readExponent(rest, api.MaxExp+len(s)+1)
	if !ok {
		return number{}, false
	}
	return newNumber(negative, exp-len(fraction), whole, fraction), true
}

// readExponent returns the exponent at the end of a numeral, or 0 if there is none. A size beyond the limit is cut to it.
func readExponent(s string, limit int) (int, bool) {
	if s == "" {
		return 0, true
	}
	if s[0] != 'e' && s[0] != 'E' {
		return 0, false
	}
	rest, negative := strings.CutPrefix(s[1:], "-")
	if !negative {
		rest = strings.TrimPrefix(rest, "+")
	}
	digits, rest := cutDigits(rest)
	if digits == "" || rest != "" {
		return 0, false
	}
	size := 0
	for i := range len(digits) {
		size = min(10*size+int(digits[i]-'0'), limit)
	}
	if negative {
		return -size, true
	}
	return size, true
}

// cutDigits splits s after the digits at its beginning.
func cutDigits(s string) (string, string) {
	rest := strings.TrimLeft(s, "0123456789")
	return s[:len(s)-len(rest)], rest
}
