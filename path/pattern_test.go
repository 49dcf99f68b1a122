package path_test

import (
	"slices"
	"strings"
	"testing"

	"rosetta/api"
	"rosetta/path"
)

// compiled returns the pattern with a text.
func compiled(t *testing.T, s string) path.Pattern {
	t.Helper()
	p, e := path.Compile(s)
	if e != api.OK || p.Text() != s {
		t.Fatalf("Compile(%.100q) = %.100q, %d", s, p.Text(), e)
	}
	return p
}

// wantSelection checks the result of Select against the reference.
func wantSelection(t *testing.T, g api.Graph, s string, visits []visit) {
	t.Helper()
	elements := referenceParts(s, true)[0]
	var want []api.Path
	for _, v := range visits {
		if referenceMatches(elements, v.path) {
			want = append(want, v.path)
		}
	}
	pattern := compiled(t, s)
	got, e := pattern.Select(g)
	if e != api.OK || !slices.EqualFunc(got, want, func(p, q api.Path) bool { return slices.Equal(p, q) }) {
		t.Fatalf("Select of %s in %s = %v, %d; want %v", s, show(g), got, e, want)
	}
	// Each path has memory of its own.
	for i, p := range got {
		p = p[:cap(p)]
		for j := range p {
			p[j] = api.Step{Index: -i}
		}
	}
	for i, p := range got {
		for _, step := range p {
			if step.Index != -i {
				t.Fatalf("the paths that %s selects share memory", s)
			}
		}
	}
}

func TestSelect(t *testing.T) { // P14.3
	g := parsed(t, `{"a"=[7,{"b"=8}]}`)
	for _, row := range []struct {
		s    string
		want string
	}{
		{"[**].b", ".a[1].b"},
		{".a[*]", ".a[0] .a[1]"},
		{"", " "},
		{"[*]", ".a"},
		{"[**]", " .a .a[0] .a[1] .a[1].b"},
		{"[*][**]", ".a .a[0] .a[1] .a[1].b"},
		{"[**][*][*]", ".a[0] .a[1] .a[1].b"},
		{".a@9", ".a"},
		{".a@9[0]", ".a[0]"},
		{".b", ""},
		{"[0]", ""},
		{".a[2]", ""},
		{"[*][*][*][*]", ""},
	} {
		l, e := compiled(t, row.s).Select(g)
		var texts []string
		for _, p := range l {
			texts = append(texts, path.Text(p))
		}
		want := strings.Split(row.want, " ")
		if row.want == "" {
			want = nil
		}
		if row.want == " " {
			want = []string{""}
		}
		if e != api.OK || !slices.Equal(texts, want) {
			t.Errorf("Select of %q = %q, %d; want %q", row.s, texts, e, want)
		}
	}
	// Only first paths are selected, and a cycle ends.
	cycle := rooted(list(0, 1, 1), integer("1"))
	for s, want := range map[string]int{"[**]": 2, "[0][**]": 0, "[1]": 1, "[2]": 0, "[*]": 1} {
		if l, e := compiled(t, s).Select(cycle); e != api.OK || len(l) != want {
			t.Errorf("Select of %s in a cycle = %v, %d", s, l, e)
		}
	}
}

func TestZeroPattern(t *testing.T) { // P14.3
	var zero path.Pattern
	if zero.Text() != "" || !zero.Matches(nil) || !zero.Matches(api.Path{}) || zero.Matches(api.Path{item(0)}) {
		t.Errorf("the zero Pattern has elements")
	}
	if l, e := zero.Select(rooted(list(1), list())); e != api.OK || len(l) != 1 || len(l[0]) != 0 {
		t.Errorf("Select of the zero Pattern = %v, %d", l, e)
	}
}

func TestMatches(t *testing.T) { // P14.3: all short patterns and paths
	elements := []string{"[*]", "[**]", "[0]", "[1]", ".a", "{1}@3"}
	steps := api.Path{item(0), item(1), {Index: -1}, value(`"a"`), {Index: -4, Key: `"a"`}, {Index: 3, Key: "1"}, {Index: 1, Key: "no key text"}}
	patterns, paths := []string{""}, []api.Path{nil}
	for from, round := 0, 0; round < 3; round++ {
		size := len(patterns)
		for _, s := range patterns[from:size] {
			for _, e := range elements {
				patterns = append(patterns, s+e)
			}
		}
		from = size
	}
	for from, round := 0, 0; round < 4; round++ {
		size := len(paths)
		for _, p := range paths[from:size] {
			for _, step := range steps {
				paths = append(paths, append(slices.Clone(p), step))
			}
		}
		from = size
	}
	for _, s := range patterns {
		pattern, reference := compiled(t, s), referenceParts(s, true)[0]
		for _, p := range paths {
			if want := referenceMatches(reference, p); pattern.Matches(p) != want {
				t.Fatalf("%s matches %v: %t", s, p, !want)
			}
		}
	}
	for _, s := range []string{"[**][0][**][1][**]", "[**][*][**][0][**]", "[0][**][**][0]", "[**][0][1][**][0]", "[**].a[*].a[**]", "[*][**][0][*]", "[**][**][**][**][**]"} {
		pattern, reference := compiled(t, s), referenceParts(s, true)[0]
		for _, p := range paths {
			for _, q := range paths[:60] {
				longer := slices.Concat(p[:min(len(p), 3)], q)
				if want := referenceMatches(reference, longer); pattern.Matches(longer) != want {
					t.Fatalf("%s matches %v: %t", s, longer, !want)
				}
			}
		}
	}
}

func TestLongPathsAndPatterns(t *testing.T) { // P14.3: paths need not be valid, and may have any number of steps
	zeros := make(api.Path, 1<<17)
	last := slices.Clone(zeros)
	last[len(last)-1].Index = 1
	for _, row := range []struct {
		s           string
		zeros, last bool
	}{
		{"[**]", true, true},
		{"[**][0]", true, false},
		{"[**][1]", false, true},
		{"[0][**][1]", false, true},
		{strings.Repeat("[**][0]", api.MaxParts/2), true, false},
		{strings.Repeat("[**][*]", api.MaxParts/2-1) + "[**][1]", false, true},
		{strings.Repeat("[**]", api.MaxParts), true, true},
		{strings.Repeat("[*]", api.MaxParts), false, false},
		{strings.Repeat("[**][0]", api.MaxParts/2-1) + "[1][**]", false, true},
	} {
		pattern := compiled(t, row.s)
		if pattern.Matches(zeros) != row.zeros || pattern.Matches(last) != row.last {
			t.Errorf("%.30s matches: %t, %t", row.s, pattern.Matches(zeros), pattern.Matches(last))
		}
	}
	exact := compiled(t, strings.Repeat("[*]", api.MaxParts))
	for size, want := range map[int]bool{api.MaxParts - 1: false, api.MaxParts: true, api.MaxParts + 1: false} {
		if exact.Matches(zeros[:size]) != want {
			t.Errorf("a pattern of %d steps matches %d steps: %t", api.MaxParts, size, !want)
		}
	}
	before := slices.Clone(last)
	compiled(t, "[**][1]").Matches(last[:10])
	if !slices.Equal(before, last) {
		t.Errorf("Matches changes its argument")
	}
}

func TestLimitsOfPatterns(t *testing.T) { // P14.3
	for _, s := range []string{"[*][*]", "[**][**]", "[0][0]", ".a{1}", "[*][**]", ".a@9[**]"} {
		full := strings.Repeat(s, api.MaxParts/2)
		compiled(t, full)
		for _, last := range []string{"[*]", "[**]", "[0]", ".a"} {
			wantNoPattern(t, full+last, api.ErrMany)
			wantNoPattern(t, full+last+" ", api.ErrSyntax)
		}
	}
	wantNoPattern(t, strings.Repeat("[*]", api.MaxSource/3), api.ErrMany)
	wantNoPattern(t, strings.Repeat("[*]", api.MaxSource/3)+".", api.ErrSyntax)
	wantNoPattern(t, strings.Repeat("[*]", api.MaxSource/3+1), api.ErrLong)
	for _, s := range []string{"[***]", "[*", "[**", "*", "[*]*", "[* ]", "[*]@1", "[**]@1", ".*", "{*}", ".a*", "[*]..", "[*][01]", "[*]{\"a\"}"} {
		wantNoPattern(t, s, api.ErrSyntax)
	}
	for _, s := range []string{"[*]", "[**]", ".a[*]", "[**][0]"} {
		if p, e := path.Parse(s); e != api.ErrSyntax || len(p) != 0 {
			t.Errorf("Parse(%s) = %v, %d", s, p, e)
		}
	}
	// A key that looks like an element.
	if p := compiled(t, `{"[*]"}[*]`); !p.Matches(api.Path{value(`"[*]"`), item(3)}) || p.Matches(api.Path{item(0), item(3)}) {
		t.Errorf("a key is taken for an element")
	}
}

func wantNoPattern(t *testing.T, s string, want api.Errno) {
	t.Helper()
	if p, e := path.Compile(s); e != want || p.Text() != "" || !p.Matches(nil) {
		t.Fatalf("Compile(%.100q) = %.100q, %d; want the error %d", s, p.Text(), e, want)
	}
}
