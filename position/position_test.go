package position_test

import (
	"math"
	"strings"
	"testing"

	"rosetta/api"
	"rosetta/position"
)

// combinations calls visit for all strings of at most the given length over an alphabet of bytes.
func combinations(alphabet string, length int, visit func(s string)) {
	var extend func(s string)
	extend = func(s string) {
		visit(s)
		if len(s) < length {
			for i := range len(alphabet) {
				extend(s + alphabet[i:i+1])
			}
		}
	}
	extend("")
}

func TestExample(t *testing.T) { // P2.1
	l := position.Of("ab\r\n\nc")
	if n := l.Count(); n != 3 {
		t.Errorf("Count = %d", n)
	}
	for i, want := range []string{"ab", "", "c"} {
		if s, e := l.Line(i); s != want || e != api.OK {
			t.Errorf("Line(%d) = %q, %d; want %q", i, s, e, want)
		}
	}
	for _, c := range [][3]int{{0, 0, 0}, {2, 0, 2}, {3, 0, 3}, {4, 1, 0}, {5, 2, 0}, {6, 2, 1}} {
		if line, column, e := l.At(c[0]); line != c[1] || column != c[2] || e != api.OK {
			t.Errorf("At(%d) = %d, %d, %d; want %d, %d", c[0], line, column, e, c[1], c[2])
		}
		if offset, e := l.Offset(c[1], c[2]); offset != c[0] || e != api.OK {
			t.Errorf("Offset(%d, %d) = %d, %d; want %d", c[1], c[2], offset, e, c[0])
		}
	}
}

func TestCount(t *testing.T) { // P2.1
	for _, c := range []struct {
		src   string
		count int
	}{{"", 1}, {"a", 1}, {"\n", 2}, {"a\n", 2}, {"a\nb", 2}, {"\r", 1}, {"\r\r", 1}, {"\n\r", 2}, {"\r\n\r\n", 3}, {"\u2028\u0085\v\f", 1}, {strings.Repeat("x\n", 3000), 3001}} {
		if n := position.Of(c.src).Count(); n != c.count {
			t.Errorf("Count of %.20q = %d; want %d", c.src, n, c.count)
		}
	}
}

func TestLineEnds(t *testing.T) { // P2.1
	for _, c := range []struct {
		src  string
		line int
		want string
	}{
		{"a\r\nb", 0, "a"},
		{"a\r\r\nb", 0, "a\r"}, // only the carriage return directly before the line feed
		{"a\n\rb", 0, "a"},
		{"a\n\rb", 1, "\rb"},
		{"a\rb", 0, "a\rb"},
		{"a\n\r", 1, "\r"}, // no line feed follows
		{"\r\n", 0, ""},
		{"\r\n", 1, ""},
		{"a\r\n", 1, ""},
		{"é\xff\n", 0, "é\xff"},
	} {
		if s, e := position.Of(c.src).Line(c.line); s != c.want || e != api.OK {
			t.Errorf("Line(%d) of %q = %q, %d; want %q", c.line, c.src, s, e, c.want)
		}
	}
}

func TestColumnsCountBytes(t *testing.T) { // P2.1
	l := position.Of("é€\nü\xffx")
	if line, column, e := l.At(5); line != 0 || column != 5 || e != api.OK {
		t.Errorf("At(5) = %d, %d, %d", line, column, e)
	}
	if line, column, e := l.At(9); line != 1 || column != 3 || e != api.OK {
		t.Errorf("At(9) = %d, %d, %d", line, column, e)
	}
	if offset, e := l.Offset(1, 1); offset != 7 || e != api.OK {
		t.Errorf("Offset(1, 1) = %d, %d", offset, e)
	}
}

func TestZeroLines(t *testing.T) { // P2.1
	for _, l := range []position.Lines{{}, position.Of("")} {
		if n := l.Count(); n != 1 {
			t.Errorf("Count = %d", n)
		}
		if s, e := l.Line(0); s != "" || e != api.OK {
			t.Errorf("Line(0) = %q, %d", s, e)
		}
		if line, column, e := l.At(0); line != 0 || column != 0 || e != api.OK {
			t.Errorf("At(0) = %d, %d, %d", line, column, e)
		}
		if offset, e := l.Offset(0, 0); offset != 0 || e != api.OK {
			t.Errorf("Offset(0, 0) = %d, %d", offset, e)
		}
		checkErrors(t, l, 0)
	}
}

func TestErrors(t *testing.T) { // P2.1
	for _, src := range []string{"a", "\n", "ab\r\n\nc", "x\r\n"} {
		checkErrors(t, position.Of(src), len(src))
	}
	l := position.Of("ab\r\ncd\n")
	for _, c := range []struct {
		line, column int
		want         api.Errno
	}{
		{0, 3, api.OK}, // the line feed, after a carriage return that counts
		{0, 4, api.ErrRange},
		{1, 2, api.OK},
		{1, 3, api.ErrRange},
		{2, 0, api.OK},
		{2, 1, api.ErrRange},
		{1, -1, api.ErrRange},
		{1, math.MaxInt, api.ErrRange},
		{1, math.MinInt, api.ErrRange},
		{3, -1, api.ErrNone}, // a missing line comes before a bad column
		{-1, 99, api.ErrNone},
	} {
		offset, e := l.Offset(c.line, c.column)
		if e != c.want || e != api.OK && offset != 0 {
			t.Errorf("Offset(%d, %d) = %d, %d; want error %d", c.line, c.column, offset, e, c.want)
		}
	}
}

// checkErrors checks the offsets and the lines that no lines of a source of that size have.
func checkErrors(t *testing.T, l position.Lines, size int) {
	t.Helper()
	for _, offset := range []int{-1, size + 1, math.MinInt, math.MaxInt} {
		if line, column, e := l.At(offset); line != 0 || column != 0 || e != api.ErrRange {
			t.Errorf("At(%d) = %d, %d, %d; want ErrRange", offset, line, column, e)
		}
	}
	for _, i := range []int{-1, l.Count(), math.MinInt, math.MaxInt} {
		if s, e := l.Line(i); s != "" || e != api.ErrNone {
			t.Errorf("Line(%d) = %q, %d; want ErrNone", i, s, e)
		}
		if offset, e := l.Offset(i, 0); offset != 0 || e != api.ErrNone {
			t.Errorf("Offset(%d, 0) = %d, %d; want ErrNone", i, offset, e)
		}
	}
}

func TestEveryShortSource(t *testing.T) { // P2.1, P2.2
	combinations("a\r\n", 7, func(src string) {
		l := position.Of(src)
		raw := strings.Split(src, "\n")
		if l.Count() != len(raw) {
			t.Fatalf("Count of %q = %d", src, l.Count())
		}
		for offset := range len(src) + 1 {
			checkOffset(t, l, src, offset)
		}
		begin := 0
		for i, line := range raw {
			checkLine(t, l, src, i, begin, line, i == len(raw)-1)
			begin += len(line) + 1
		}
	})
}

// checkOffset compares the line and the column of an offset with counts of the text before it.
func checkOffset(t *testing.T, l position.Lines, src string, offset int) {
	t.Helper()
	before := src[:offset]
	line, column, e := l.At(offset)
	wantLine, wantColumn := strings.Count(before, "\n"), offset-strings.LastIndex(before, "\n")-1
	if line != wantLine || column != wantColumn || e != api.OK {
		t.Fatalf("%q: At(%d) = %d, %d, %d; want %d, %d", src, offset, line, column, e, wantLine, wantColumn)
	}
	if back, e := l.Offset(line, column); back != offset || e != api.OK {
		t.Fatalf("%q: Offset(%d, %d) = %d, %d; want %d", src, line, column, back, e, offset)
	}
}

// checkLine compares a line with its text up to the line feed, raw.
func checkLine(t *testing.T, l position.Lines, src string, i, begin int, raw string, last bool) {
	t.Helper()
	want := raw
	if !last && strings.HasSuffix(raw, "\r") {
		want = raw[:len(raw)-1]
	}
	if s, e := l.Line(i); s != want || e != api.OK {
		t.Fatalf("%q: Line(%d) = %q, %d; want %q", src, i, s, e, want)
	}
	for column := -1; column <= len(raw)+1; column++ {
		offset, e := l.Offset(i, column)
		inside := column >= 0 && column <= len(raw)
		if inside && (offset != begin+column || e != api.OK) || !inside && (offset != 0 || e != api.ErrRange) {
			t.Fatalf("%q: Offset(%d, %d) = %d, %d", src, i, column, offset, e)
		}
	}
}

func TestLinesYieldTheSource(t *testing.T) { // P2.2
	combinations("a\r\n", 7, func(src string) {
		l := position.Of(src)
		var text strings.Builder
		for i := range l.Count() {
			line, _ := l.Line(i)
			text.WriteString(line)
			end := len(src)
			if i+1 < l.Count() {
				end, _ = l.Offset(i+1, 0)
			}
			lineEnd := src[text.Len():end]
			if want := i+1 < l.Count(); want != (lineEnd == "\n" || lineEnd == "\r\n") || !want && lineEnd != "" {
				t.Fatalf("%q: line %d is followed by %q", src, i, lineEnd)
			}
			text.WriteString(lineEnd)
		}
		if text.String() != src {
			t.Fatalf("%q: the lines yield %q", src, text.String())
		}
	})
}

func TestIndent(t *testing.T) { // P2.3
	for _, c := range []struct {
		s   string
		n   int
		tab bool
	}{
		{"", 0, false},
		{"x", 0, false},
		{"  \tx", 2, true},
		{"   x", 3, false},
		{"    ", 4, false},
		{"\t", 0, true},
		{"\t  x", 0, true},
		{" \t \tx", 1, true},
		{"x \t", 0, false},
		{" x\t", 1, false},
		{" \n\t", 1, false},
		{" \r\t", 1, false},
		{"\u00a0 \t", 0, false}, // no-break space is not white space here
		{"  \xff", 2, false},
		{strings.Repeat(" ", 5000) + "\t", 5000, true},
	} {
		if n, tab := position.Indent(c.s); n != c.n || tab != c.tab {
			t.Errorf("Indent(%.20q) = %d, %v; want %d, %v", c.s, n, tab, c.n, c.tab)
		}
	}
}

func TestIndentOfEveryShortString(t *testing.T) { // P2.3
	combinations(" \t\nx", 6, func(s string) {
		white := s[:len(s)-len(strings.TrimLeft(s, " \t"))]
		wantN, wantTab := len(s)-len(strings.TrimLeft(s, " ")), strings.Contains(white, "\t")
		if n, tab := position.Indent(s); n != wantN || tab != wantTab {
			t.Fatalf("Indent(%q) = %d, %v; want %d, %v", s, n, tab, wantN, wantTab)
		}
	})
}
