package canon_test

import (
	"cmp"
	"math/rand"
	"slices"
	"strings"
	"testing"

	"rosetta/api"
	"rosetta/canon"
)

// wantOrder checks the results of Compare for two graphs and for their exchange.
func wantOrder(t *testing.T, a, b api.Graph, want int) {
	t.Helper()
	for _, pair := range [][2]api.Graph{{a, b}, {b, a}} {
		if order, e := canon.Compare(pair[0], pair[1]); order != want || e != api.OK {
			t.Fatalf("Compare(%s, %s) = %d, %d; want %d", show(pair[0]), show(pair[1]), order, e, want)
		}
		want = -want
	}
}

func TestOrder(t *testing.T) { // P11.2: all pairs of an ascending list
	nines := strings.Repeat("9", api.MaxDigits)
	var values []api.Graph
	for _, s := range []string{
		"null", "false", "true",
		"-" + nines, "-10", "-9", "-1", "0", "1", "9", "10", nines,
		"-1e2000", "-2e0", "-15e-1", "-1e-2000", "0e0", "1e-2000", "15e-1", "9e0", "1e1", "11e0", "1e2000",
		"-inf", "-1p1023", "-3p0", "-1p1", "-1p-1074", "-0p0", "0p0", "1p-1074", "1p-1", "1p0", "3p-1", "1p1", "1p1023", "inf", "nan",
		`""`, "\"\x00\"", `"\""`, `"10"`, `"9"`, `"A"`, `"\\"`, `"a"`, `"a!"`, `"aa"`, `"b"`, `"é"`, "\"\ufffd\"", "\"\U00010000\"",
		"#", "#00", "#0000", "#01", "#7f", "#80", "#ff",
		"@0000-01-01T00:00:00Z", "@2026-11-20T09:46:38.5Z", "@2026-11-20T09:46:38Z", "@9999-12-31T23:59:59Z",
		"%09:46:38", "%2026-11-20", "%2026-11-20T09:46:38", "%23:00:00",
		"[]", "[null]", "[null,null]", "[null,1]", "[1]", "[1,[]]", "[2]", "[[]]", "[[],1]", "[[1]]", "[{}]",
		"{}", "{1={}}", "{1={},2=1}", "{1={},2=2}", "{1=<>}", "{2=1}", `{2=1,"a"=1}`, `{2=2}`, "{[]=1}", "{{}=1}",
		"<>", `<1=1,"a"=1>`, `<2=1>`, `<2=1,"a"=1>`, `<2=1,"a"=1,1=1>`, `<2=1,"b"=0>`, `<2=2>`, `<"a"=1,1=1>`,
		"!T(1)", "!t(null)", "!t(1)", "!t([])", "!tt(null)", "!u(null)",
	} {
		values = append(values, parsed(t, s))
	}
	for i, a := range values {
		for j, b := range values {
			wantOrder(t, a, b, cmp.Compare(i, j))
		}
	}
}

func TestOrderOfRandomValues(t *testing.T) { // P11.2
	random := rand.New(rand.NewSource(3))
	for range 3000 {
		// Small values are often equal, or differ late.
		size := 1 + random.Intn(12)
		values := make([]api.Graph, 3)
		for i := range values {
			values[i] = validGraph(random, size, false)
		}
		values = append(values, shuffled(random, values[0]))
		var before []api.Graph
		for _, v := range values {
			before = append(before, clone(v))
		}
		for _, a := range values {
			for _, b := range values {
				want := referenceCompare(unfold(a, a.Root), unfold(b, b.Root))
				wantOrder(t, a, b, cmp.Compare(want, 0))
				first, _ := canon.Key(a)
				second, _ := canon.Key(b)
				if (want == 0) != (first == second) {
					t.Fatalf("the order of %s and %s is %d", first, second, want)
				}
			}
		}
		if !slices.EqualFunc(values, before, identical) {
			t.Fatalf("Compare changes its arguments")
		}
	}
}

func TestOrderIgnoresSharing(t *testing.T) { // P11.2: also of values whose trees cannot be written
	for _, depth := range []int{0, 1, 10, api.MaxDepth} {
		a, b := doubled(depth, integer("1")), doubled(depth, integer("2"))
		wantOrder(t, a, a, 0)
		wantOrder(t, a, doubled(depth, integer("1")), 0)
		wantOrder(t, a, b, -1)
	}
	// Only the last one of 2^32 leaves differs: the second items lead to it.
	const depth = api.MaxDepth
	var almost api.Graph
	for i := range depth {
		almost.Nodes = append(almost.Nodes, list(depth+i+1, i+1))
	}
	almost.Nodes = append(almost.Nodes, integer("2"))
	for i := depth + 1; i < 2*depth; i++ {
		almost.Nodes = append(almost.Nodes, list(i+1, i+1))
	}
	almost.Nodes = append(almost.Nodes, integer("1"))
	wantOrder(t, doubled(depth, integer("1")), almost, -1)
	tree := parsed(t, "[[1,1],[1,1]]")
	wantOrder(t, doubled(2, integer("1")), tree, 0)
	wide := rooted(list(slicesOf(1, 200000)...), integer("1"))
	wider := rooted(list(slicesOf(1, 200001)...), integer("1"))
	wantOrder(t, wide, wider, -1)
}

func TestManyEqualNodes(t *testing.T) { // P11.2: levels of equal nodes, each of which refers to many nodes of the next level
	const width, levels = 100, 31
	var g api.Graph
	g.Nodes = append(g.Nodes, list())
	for i := range width {
		g.Nodes[0].Items = append(g.Nodes[0].Items, 1+i)
	}
	for level := range levels - 1 {
		for i := range width {
			n := list()
			for j := range width {
				n.Items = append(n.Items, 1+(level+1)*width+(i+j*j)%width)
			}
			g.Nodes = append(g.Nodes, n)
		}
	}
	for range width {
		g.Nodes = append(g.Nodes, integer("1"))
	}
	random := rand.New(rand.NewSource(4))
	other := shuffled(random, g)
	wantOrder(t, g, other, 0)
	for i, n := range other.Nodes {
		if n.Kind == api.Int {
			other.Nodes[i].Text = "2"
		}
	}
	wantOrder(t, g, other, -1)
}

func TestCompareErrors(t *testing.T) { // P11.2: ErrForm for both values before ErrCycle
	good, loop := rooted(text("a")), rooted(list(0))
	far := rooted(list(1), list(2), list(1))
	want := func(a, b api.Graph, want api.Errno) {
		t.Helper()
		if order, e := canon.Compare(a, b); order != 0 || e != want {
			t.Errorf("Compare(%s, %s) = %d, %d; want %d", show(a), show(b), order, e, want)
		}
	}
	for _, bad := range invalidGraphs() {
		for _, other := range []api.Graph{good, loop, bad} {
			want(bad, other, api.ErrForm)
			want(other, bad, api.ErrForm)
		}
	}
	for _, cyclic := range []api.Graph{loop, far} {
		want(cyclic, good, api.ErrCycle)
		want(good, cyclic, api.ErrCycle)
		want(cyclic, cyclic, api.ErrCycle)
	}
}
