package path_test

import (
	"math/rand"
	"slices"
	"strings"
	"testing"

	"rosetta/api"
	"rosetta/path"
)

func item(index int) api.Step   { return api.Step{Index: index} }
func value(key string) api.Step { return api.Step{Key: key} }

// wantPath checks that a valid path and its text belong together.
func wantPath(t *testing.T, s string, want api.Path) {
	t.Helper()
	if p, e := path.Parse(s); e != api.OK || !slices.Equal(p, want) {
		t.Fatalf("Parse(%.100q) = %.10v, %d; want %.10v", s, p, e, want)
	}
	before := slices.Clone(want)
	if text := path.Text(want); text != s || !slices.Equal(want, before) {
		t.Fatalf("Text(%.10v) = %.100q; want %.100q", want, text, s)
	}
}

func wantNoPath(t *testing.T, s string, want api.Errno) {
	t.Helper()
	if p, e := path.Parse(s); e != want || len(p) != 0 {
		t.Fatalf("Parse(%.100q) = %.10v, %d; want the error %d", s, p, e, want)
	}
	if p, e := path.Compile(s); e != want || p.Text() != "" {
		t.Fatalf("Compile(%.100q) = %.100q, %d; want the error %d", s, p.Text(), e, want)
	}
}

func TestPaths(t *testing.T) { // P14.1
	for _, row := range []struct {
		s    string
		want api.Path
	}{
		{"", nil},
		{`.a[2]{"x y"}`, api.Path{value(`"a"`), item(2), value(`"x y"`)}},
		{"[0]", api.Path{item(0)}},
		{"[10][999999999]", api.Path{item(10), item(999999999)}},
		{"._", api.Path{value(`"_"`)}},
		{".Z9_a.z", api.Path{value(`"Z9_a"`), value(`"z"`)}},
		{".a@1", api.Path{{Index: 1, Key: `"a"`}}},
		{".a@999999999.b@20", api.Path{{Index: 999999999, Key: `"a"`}, {Index: 20, Key: `"b"`}}},
		{`{"9"}{""}{"a-b"}{"é"}{"a.b"}{"a@1"}`, api.Path{value(`"9"`), value(`""`), value(`"a-b"`), value(`"é"`), value(`"a.b"`), value(`"a@1"`)}},
		{`{"a b"}@7[7]`, api.Path{{Index: 7, Key: `"a b"`}, item(7)}},
		{"{null}{true}{-1}{25e-1}{-0p0}{nan}{#00ff}", api.Path{value("null"), value("true"), value("-1"), value("25e-1"), value("-0p0"), value("nan"), value("#00ff")}},
		{"{@2026-11-20T16:15:00Z}@3{%2026-11-20}", api.Path{{Index: 3, Key: "@2026-11-20T16:15:00Z"}, value("%2026-11-20")}},
		{`{[1,"]}"]}{{}}{{1={2=3}}}{<>}{<1={}>}{!t({})}`, api.Path{value(`[1,"]}"]`), value("{}"), value("{1={2=3}}"), value("<>"), value("<1={}>"), value("!t({})")}},
		{`{"\""}{"\\"}{"\\\""}{"\"}"}{"{"}{"}"}{{"}\\"="{"}}`, api.Path{value(`"\""`), value(`"\\"`), value(`"\\\""`), value(`"\"}"`), value(`"{"`), value(`"}"`), value(`{"}\\"="{"}`)}},
		{`{"[*]"}{"[**]"}` + "{\"\n\x00\"}", api.Path{value(`"[*]"`), value(`"[**]"`), value("\"\n\x00\"")}},
	} {
		wantPath(t, row.s, row.want)
	}
	for _, s := range []string{
		" ", "a", ".", "..", "[", "]", "[]", "[ 0]", "[-1]", "[+1]", "[00]", "[01]", "[02]", "[1e0]", "[0x1]", "[1_0]", "[1000000000]", "[99999999999999999999]", "[0", "[0]]", "[0] ", "[a]", "[1][", "[***]", "[*", "[**", "[ *]",
		".a.", ".a..b", ".1", ".1a", ".a b", ".a-b", ".é", ".a\xff", ".@1", ".[0]", ".a]", ".a}", `."a"`,
		".a@", ".a@0", ".a@01", ".a@-1", ".a@+1", ".a@1@2", ".a@1000000000", ".a@99999999999999999999", ".a@ 1", ".a@b", "[1]@2", "@1", "[0]@0",
		"{", "}", "{}", "{}@1", "{ }", `{"a"}`, `{"_"}@1`, `{"Ab_9"}`, "{a}", "{01}", "{1", "{1}}", "{1}@", "{1}@0", "{1}1", `{"a b"`, `{"a b}`, `{"a b\"}`, `{"\a b"}`, "{\"\xff\"}", "{1,2}", "{1=2}", "{{1=2}", "{{1=2}}}", "{{1}}", `{{"b"=1,"a"=2}}`, "{#0}", "{[1, 2]}", "{!t()}", "{\x00}", "{1 }", "{{{{", strings.Repeat("{", api.MaxSource), strings.Repeat("{[", api.MaxSource/2), `{"`, `{\}`, `{\"\"}`, `{"\`, "{1}{", "{1}{2",
		"{" + strings.Repeat("[", api.MaxDepth+2) + strings.Repeat("]", api.MaxDepth+2) + "}",
	} {
		wantNoPath(t, s, api.ErrSyntax)
	}
	deepest := strings.Repeat("[", api.MaxDepth+1) + strings.Repeat("]", api.MaxDepth+1)
	wantPath(t, "{"+deepest+"}", api.Path{value(deepest)})
}

func TestLimitsOfTexts(t *testing.T) { // P14.1
	for _, step := range []string{"[1]", ".a", "{1}", ".a@1", `{"a b"}@9`} {
		p, _ := path.Parse(strings.Repeat(step, api.MaxParts))
		if wantPath(t, strings.Repeat(step, api.MaxParts), p); len(p) != api.MaxParts {
			t.Errorf("%d steps", len(p))
		}
		wantNoPath(t, strings.Repeat(step, api.MaxParts+1), api.ErrMany)
		// The syntax of the whole text comes before the number of steps.
		wantNoPath(t, strings.Repeat(step, api.MaxParts+1)+"[", api.ErrSyntax)
		if s := path.Text(append(p, p[0])); s != "" {
			t.Errorf("Text of %d steps = %.20q", len(p)+1, s)
		}
	}
	name := strings.Repeat("a", api.MaxSource-1)
	wantPath(t, "."+name, api.Path{value(`"` + name + `"`)})
	key := `"` + strings.Repeat(" ", api.MaxSource-4) + `"`
	wantPath(t, "{"+key+"}", api.Path{value(key)})
	wantNoPath(t, "{"+key+"} ", api.ErrLong)
	wantNoPath(t, "."+name+"a", api.ErrLong)
	wantNoPath(t, strings.Repeat("[1]", api.MaxSource/3+1), api.ErrLong)
	wantNoPath(t, strings.Repeat("[1]", api.MaxSource/3), api.ErrMany)
	// Text has no limit of length, nor has a key.
	long := `"` + strings.Repeat(" ", 3*api.MaxSource) + `"`
	if s := path.Text(api.Path{value(long), item(1), value(long)}); s != "{"+long+"}[1]{"+long+"}" {
		t.Errorf("Text of long keys: %d bytes", len(s))
	}
	long = strings.Repeat("a", 3*api.MaxSource)
	if s := path.Text(api.Path{{Key: `"` + long + `"`, Index: 2}}); s != "."+long+"@2" {
		t.Errorf("Text of a long name: %d bytes", len(s))
	}
}

func TestInvalidPaths(t *testing.T) { // P14.1, P14.2
	g := parsed(t, `{"a"=[1]}`)
	for _, step := range []api.Step{
		item(-1), item(1000000000), item(-1 << 62), item(1 << 62), {Index: -1, Key: `"a"`}, {Index: 1000000000, Key: `"a"`},
		value("a"), value(" "), value("01"), value(`"a`), value(`"a" `), value("{1=2,0=1}"), value("[*]"), value("]"), value("\x00"),
		value("[" + strings.Repeat("1,", api.MaxNodes) + "1]"),
	} {
		for _, p := range []api.Path{{step}, {item(0), step}, {step, item(0)}, {value(`"a"`), item(0), step}} {
			if s := path.Text(p); s != "" {
				t.Errorf("Text(%v) = %q", p, s)
			}
			if n, e := path.Find(g, p); n != 0 || e != api.ErrArg {
				t.Errorf("Find(%v) = %d, %d", p, n, e)
			}
			if n, e := path.Find(api.Graph{}, p); n != 0 || e != api.ErrForm {
				t.Errorf("Find(%v) in an invalid graph = %d, %d", p, n, e)
			}
		}
	}
}

// wantReferenceParse checks the results of Parse and Compile against the reference.
func wantReferenceParse(t *testing.T, s string) {
	t.Helper()
	divisions, patterns := referenceParts(s, false), referenceParts(s, true)
	if len(divisions) > 1 || len(patterns) > 1 {
		t.Fatalf("%q is the text of several paths", s)
	}
	var want api.Path
	for _, elements := range divisions {
		for _, e := range elements {
			want = append(want, e.step)
		}
	}
	if p, e := path.Parse(s); !slices.Equal(p, want) || (e == api.OK) != (len(divisions) > 0) || e != api.OK && e != api.ErrSyntax {
		t.Fatalf("Parse(%q) = %v, %d; want %v", s, p, e, want)
	}
	if len(divisions) > 0 && path.Text(want) != s {
		t.Fatalf("Text(%v) = %q; want %q", want, path.Text(want), s)
	}
	wanted := ""
	if len(patterns) > 0 {
		wanted = s
	}
	if p, e := path.Compile(s); p.Text() != wanted || (e == api.OK) != (len(patterns) > 0) || e != api.OK && e != api.ErrSyntax {
		t.Fatalf("Compile(%q) = %q, %d; want %q", s, p.Text(), e, wanted)
	}
}

func TestAllShortTexts(t *testing.T) { // P14.1, P14.3
	for _, row := range []struct {
		alphabet string
		size     int
	}{
		{".[]{}@\"\\01a_*- ", 5},
		{".a@01", 7},
		{"{}[]1\"", 7},
		{"{}\"\\", 8},
		{"[]*1", 8},
	} {
		texts := []string{""}
		for range row.size {
			var longer []string
			for _, s := range texts {
				for _, c := range row.alphabet {
					wantReferenceParse(t, s+string(c))
					longer = append(longer, s+string(c))
				}
			}
			texts = longer
		}
	}
}

func TestChangedTexts(t *testing.T) { // P14.1, P14.3: texts of which one byte is missing, inserted or replaced
	random := rand.New(rand.NewSource(1))
	steps := []string{"[0]", "[12]", ".a", ".b_9@3", `{"x }"}`, `{"\""}@1`, `{{"a"=[{}],"b"=<>}}`, "{!t:1(#00)}@10", "{-1}", "{%2026-11-20}", "[*]", "[**]"}
	for range 3000 {
		var s string
		for range 1 + random.Intn(3) {
			s += steps[random.Intn(len(steps))]
		}
		wantReferenceParse(t, s)
		at := random.Intn(len(s))
		c := string(".[]{}@\"\\0a*=,"[random.Intn(13)])
		wantReferenceParse(t, s[:at]+s[at+1:])
		wantReferenceParse(t, s[:at]+c+s[at:])
		wantReferenceParse(t, s[:at]+c+s[at+1:])
	}
}

func TestInverse(t *testing.T) { // P14.1: Parse of Text of valid paths
	random := rand.New(rand.NewSource(2))
	keys := []string{"", `"a"`, `"_"`, `"Az09_"`, `"9"`, `""`, `"\"}"`, `"\\"`, "null", "-12", "[1,[2]]", `{"}"={}}`, "<2=1,1=2>", "!t(nan)", "#", "#7d", `"é"`, "\"\x00\""}
	for range 20000 {
		var p api.Path
		for range random.Intn(6) {
			p = append(p, api.Step{Index: []int{0, 1, 7, 10, 123456789, 999999999}[random.Intn(6)], Key: keys[random.Intn(len(keys))]})
		}
		s := path.Text(p)
		if len(p) > 0 && s == "" {
			t.Fatalf("Text(%v) is empty", p)
		}
		wantPath(t, s, p)
	}
}
