// Package position implements layer 2: lines, columns and indentation.
package position

import (
	"sort"
	"strings"

	"rosetta/api"
)

// Lines are the lines of a source. The zero Lines is that of the empty source.
type Lines struct {
	src string
	// starts holds where the lines after the first one begin: the first one always begins at 0, so the zero Lines needs no special case.
	starts []int
}

// Of returns the lines of a source.
func Of(src string) Lines {
	starts := make([]int, 0, strings.Count(src, "\n"))
	for i := range len(src) {
		if src[i] == '\n' {
			starts = append(starts, i+1)
		}
	}
	return Lines{src: src, starts: starts}
}

// Count returns the number of lines.
func (l Lines) Count() int { return len(l.starts) + 1 }

// At returns the line and the column of an offset.
func (l Lines) At(offset int) (int, int, api.Errno) {
	if offset < 0 || offset > len(l.src) {
		return 0, 0, api.ErrRange
	}
	line := sort.Search(len(l.starts), func(i int) bool { return l.starts[i] > offset })
	return line, offset - l.begin(line), api.OK
}

// Offset returns the offset of a line and a column.
func (l Lines) Offset(line, column int) (int, api.Errno) {
	if !l.has(line) {
		return 0, api.ErrNone
	}
	begin := l.begin(line)
	if column < 0 || column > l.end(line)-begin {
		return 0, api.ErrRange
	}
	return begin + column, api.OK
}

// Line returns a line without its line end.
func (l Lines) Line(i int) (string, api.Errno) {
	if !l.has(i) {
		return "", api.ErrNone
	}
	line := l.src[l.begin(i):l.end(i)]
	// A carriage return at the end of the source stands before no line feed, so it is part of the last line.
	if i < len(l.starts) {
		line = strings.TrimSuffix(line, "\r")
	}
	return line, api.OK
}

// has reports whether there is a line of that number.
func (l Lines) has(line int) bool { return line >= 0 && line < l.Count() }

// begin returns the offset at which an existing line begins.
func (l Lines) begin(line int) int {
	if line == 0 {
		return 0
	}
	return l.starts[line-1]
}

// end returns the offset of the line feed of an existing line, or the length of the source for the last line.
func (l Lines) end(line int) int {
	if line < len(l.starts) {
		return l.starts[line] - 1
	}
	return len(l.src)
}

// Indent returns the number of spaces at the beginning of s, and whether a tab follows among the white space there.
func Indent(s string) (int, bool) {
	rest := strings.TrimLeft(s, " ")
	return len(s) - len(rest), strings.HasPrefix(rest, "\t")
}
