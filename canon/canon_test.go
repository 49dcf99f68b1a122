package canon_test

import (
	"math/rand"
	"strings"
	"testing"

	"rosetta/api"
	"rosetta/canon"
	"rosetta/graph"
)

// wantKey checks the key text of a graph, and that it is read as a tree in normal form, if there is one.
func wantKey(t *testing.T, g api.Graph, want string) {
	t.Helper()
	if s, e := canon.Key(g); s != want || e != api.OK {
		t.Fatalf("Key(%s) = %q, %d; want %q", show(g), s, e, want)
	}
	tree := referenceTree(unfold(g, g.Root))
	wantE := api.OK
	if graph.Check(tree) != api.OK {
		tree, wantE = api.Graph{}, api.ErrSyntax
	}
	if p, e := canon.ParseKey(want); e != wantE || !identical(p, tree) {
		t.Fatalf("ParseKey(%q) = %s, %d; want %s, %d", want, show(p), e, show(tree), wantE)
	}
}

func TestKeyOfScalars(t *testing.T) { // P11.1
	for _, row := range []struct {
		node api.Node
		want string
	}{
		{scalar(api.Null, ""), "null"},
		{scalar(api.Bool, "true"), "true"},
		{scalar(api.Bool, "false"), "false"},
		{integer("0"), "0"},
		{integer("-7"), "-7"},
		{integer(strings.Repeat("9", api.MaxDigits)), strings.Repeat("9", api.MaxDigits)},
		{scalar(api.Dec, "0e0"), "0e0"},
		{scalar(api.Dec, "-25e-1"), "-25e-1"},
		{scalar(api.Float, "0p0"), "0p0"},
		{scalar(api.Float, "-0p0"), "-0p0"},
		{scalar(api.Float, "-3p-1"), "-3p-1"},
		{scalar(api.Float, "inf"), "inf"},
		{scalar(api.Float, "-inf"), "-inf"},
		{scalar(api.Float, "nan"), "nan"},
		{text(""), `""`},
		{text("a b"), `"a b"`},
		{text("null"), `"null"`},
		{text(`a"b\c`), `"a\"b\\c"`},
		{text(`\`), `"\\"`},
		{text(`"`), `"\""`},
		{text("\x00\n\r\té\U0010ffff"), "\"\x00\n\r\té\U0010ffff\""},
		{text("[1],{2=3}>)!#@%"), `"[1],{2=3}>)!#@%"`},
		{scalar(api.Bytes, ""), "#"},
		{scalar(api.Bytes, "\x00\xffa\x1e"), "#00ff611e"},
		{scalar(api.Instant, "2026-11-20T09:46:38.5Z"), "@2026-11-20T09:46:38.5Z"},
		{scalar(api.Local, "2026-11-20"), "%2026-11-20"},
		{scalar(api.Local, "09:46:38"), "%09:46:38"},
		{scalar(api.Local, "2026-11-20T09:46:38"), "%2026-11-20T09:46:38"},
	} {
		wantKey(t, rooted(row.node), row.want)
	}
}

func TestKeyOfContainers(t *testing.T) { // P11.1
	for _, row := range []struct {
		g    api.Graph
		want string
	}{
		{rooted(list()), "[]"},
		{rooted(entries()), "{}"},
		{rooted(inOrder(entries())), "<>"},
		{rooted(list(1), list()), "[[]]"},
		{rooted(list(1, 2), integer("1"), text("a")), `[1,"a"]`},
		{rooted(list(1, 1), integer("1")), "[1,1]"},
		{rooted(tag("t:1", 1), scalar(api.Null, "")), "!t:1(null)"},
		{rooted(tag("a", 1), tag("-._:", 2), list(3), tag("b", 4), list()), "!a(!-._:([!b([])]))"},
		// The example of the document.
		{rooted(entries(3, 4, 1, 2), text("a"), scalar(api.Float, "-0p0"), text("b"), list(5, 6), integer("1"), scalar(api.Null, "")), `{"a"=-0p0,"b"=[1,null]}`},
		{rooted(inOrder(entries(3, 4, 1, 2)), text("a"), integer("1"), text("b"), integer("2")), `<"b"=2,"a"=1>`},
		// Keys are sorted as values, not as texts.
		{rooted(entries(1, 2, 3, 2, 4, 2), integer("10"), list(), integer("9"), integer("-1")), "{-1=[],9=[],10=[]}"},
		{rooted(entries(1, 3, 2, 3), text("a"), integer("1"), list()), `{1=[],"a"=[]}`},
		{rooted(entries(1, 3, 2, 3), text("a!"), text("a"), list()), `{"a"=[],"a!"=[]}`},
		// Keys with unordered maps in them.
		{rooted(entries(1, 7, 8, 7), entries(2, 3, 5, 6), text("b"), list(4), integer("1"), text("a"), integer("3"), list(), entries(9, 10, 11, 12), text("b"), integer("1"), text("a"), integer("2")), `{{"a"=2,"b"=1}=[],{"a"=3,"b"=[1]}=[]}`},
	} {
		wantKey(t, row.g, row.want)
		wantKey(t, api.Graph{Nodes: row.g.Nodes}, row.want)
	}
	root := api.Graph{Nodes: []api.Node{integer("2"), integer("1"), list(1, 0)}, Root: 2}
	wantKey(t, root, "[1,2]")
}

func TestKeyOfRandomValues(t *testing.T) { // P11.1
	random := rand.New(rand.NewSource(1))
	for range 10000 {
		g := validGraph(random, 30, false)
		before := clone(g)
		wantKey(t, g, referenceKey(unfold(g, g.Root)))
		if !identical(g, before) {
			t.Fatalf("Key changes its argument %s", show(before))
		}
	}
}

func TestKeyErrors(t *testing.T) { // P11.1: ErrForm, ErrCycle, ErrLong in this order
	want := func(g api.Graph, want api.Errno) {
		t.Helper()
		if s, e := canon.Key(g); s != "" || e != want {
			t.Errorf("Key(%s) = %.50q, %d; want %d", show(g), s, e, want)
		}
	}
	for _, g := range invalidGraphs() {
		want(g, api.ErrForm)
	}
	long := text(strings.Repeat("a", api.MaxSource-1))
	want(rooted(long), api.ErrLong)
	want(rooted(list(0, 1), long), api.ErrCycle)
	want(rooted(list(0)), api.ErrCycle)
	want(rooted(list(1), tag("t", 2), entries(3, 1), text("k")), api.ErrCycle)
	want(rooted(list(0, 1), text("\xff")), api.ErrForm)
}

func TestLimitOfKey(t *testing.T) { // P11.1: exactly MaxSource bytes are allowed
	for _, pair := range [][2]api.Graph{
		{rooted(text(strings.Repeat("a", api.MaxSource-2))), rooted(text(strings.Repeat("a", api.MaxSource-1)))},
		{rooted(text(strings.Repeat(`\`, api.MaxSource/2-1))), rooted(text("a" + strings.Repeat(`\`, api.MaxSource/2-1)))},
		{rooted(list(1, 2), text(strings.Repeat("é", api.MaxSource/2-3)), integer("1")), rooted(list(1, 2), text(strings.Repeat("é", api.MaxSource/2-3)), integer("10"))},
		{rooted(tag("t", 1), text(strings.Repeat("a", api.MaxSource-6))), rooted(tag("tt", 1), text(strings.Repeat("a", api.MaxSource-6)))},
		{rooted(entries(1, 2), text(strings.Repeat("a", api.MaxSource-6)), integer("1")), rooted(entries(1, 2), text(strings.Repeat("a", api.MaxSource-5)), integer("1"))},
		// "[" and 16384 items of 3 bytes and their commas, less one, and "]", are 65537 bytes.
		{rooted(list(slicesOf(1, 16383)...), integer("100")), rooted(list(slicesOf(1, 16384)...), integer("100"))},
	} {
		if s, e := canon.Key(pair[0]); e != api.OK || s != referenceKey(unfold(pair[0], 0)) {
			t.Errorf("Key(%s): %d", show(pair[0]), e)
		}
		if s, e := canon.Key(pair[1]); e != api.ErrLong || s != "" {
			t.Errorf("Key(%s): %d; want ErrLong", show(pair[1]), e)
		}
	}
	// The text is too long to be written, but that is found out soon.
	if _, e := canon.Key(doubled(api.MaxDepth, integer("1"))); e != api.ErrLong {
		t.Errorf("Key of many values: %d", e)
	}
	if s, e := canon.Key(doubled(13, integer("1"))); e != api.OK || s != referenceKey(unfold(doubled(13, integer("1")), 0)) {
		t.Errorf("Key of 2^13 values: %d", e)
	}
}

// slicesOf returns a slice of equal elements.
func slicesOf(element, count int) []int {
	list := make([]int, count)
	for i := range list {
		list[i] = element
	}
	return list
}
