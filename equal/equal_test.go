package equal_test

import (
	"math/rand"
	"slices"
	"strings"
	"testing"

	"rosetta/api"
	"rosetta/canon"
	"rosetta/equal"
	"rosetta/graph"
)

// wantResult checks the results of Equal and First.
func wantResult(t *testing.T, a, b api.Graph, path api.Path, differ bool) {
	t.Helper()
	if equal.Equal(a, b) == differ {
		t.Fatalf("Equal(%s, %s) = %t", show(a), show(b), !differ)
	}
	if p, d := equal.First(a, b); !slices.Equal(p, path) || d != differ {
		t.Fatalf("First(%s, %s) = %v, %t; want %v, %t", show(a), show(b), p, d, path, differ)
	}
}

// wantReference checks the results against the reference, and returns whether the values differ.
func wantReference(t *testing.T, a, b api.Graph) bool {
	t.Helper()
	x, y := newReference(a), newReference(b)
	path, differ := referenceFirst(x, y)
	if bisimilar(x, y) == differ {
		t.Fatalf("the references differ on %s and %s", show(a), show(b))
	}
	wantResult(t, a, b, path, differ)
	return differ
}

func item(index int) api.Step   { return api.Step{Index: index} }
func value(key string) api.Step { return api.Step{Key: key} }

func TestFirst(t *testing.T) { // P12.2: trees
	for _, row := range []struct {
		a, b string
		want api.Path
	}{
		// The examples of the document.
		{`{"a"=[1,2],"b"=3}`, `{"a"=[1,5],"b"=4}`, api.Path{value(`"a"`), item(1)}},
		{"[1]", "[1,2]", nil},
		// Nodes that do not match.
		{"1", "2", nil},
		{"1", `"1"`, nil},
		{"1", "1e0", nil},
		{"0p0", "-0p0", nil},
		{"null", "[]", nil},
		{`""`, "#", nil},
		{"[]", "{}", nil},
		{"{}", "<>", nil},
		{`{"a"=1}`, `<"a"=1>`, nil},
		{`{"a"=1}`, `{"b"=1}`, nil},
		{`{"a"=1}`, `{#61=1}`, nil},
		{`{"a"=1}`, `{"a"=1,"b"=1}`, nil},
		{`<"a"=1,"b"=1>`, `<"b"=1,"a"=1>`, nil},
		{`{[1]=1}`, `{[2]=1}`, nil},
		{`{{1=<2=3>}=1}`, `{{1={2=3}}=1}`, nil},
		{"!t(1)", "!u(1)", nil},
		{"!t(1)", "[1]", nil},
		// The first of several differences, and the steps to it.
		{"[1,2,3]", "[1,7,8]", api.Path{item(1)}},
		{"[[1],2]", "[[7],8]", api.Path{item(0), item(0)}},
		{"[1,[2,[3,4]]]", "[1,[2,[3,5]]]", api.Path{item(1), item(1), item(1)}},
		{"!t(1)", "!t(2)", api.Path{item(0)}},
		{"!t(!u([1]))", "!t(!u([2]))", api.Path{item(0), item(0), item(0)}},
		{"{9=1,10=2}", "{9=7,10=8}", api.Path{value("9")}},
		{"{9=1,10=2}", "{9=1,10=8}", api.Path{value("10")}},
		{"<10=1,9=2>", "<10=7,9=8>", api.Path{value("10")}},
		{"<10=[1],9=2>", "<10=[1],9=8>", api.Path{value("9")}},
		{`{{"a"=1,"b"=[#00]}=1}`, `{{"a"=1,"b"=[#00]}=2}`, api.Path{value(`{"a"=1,"b"=[#00]}`)}},
		{`{"\"\\"={null=[1]}}`, `{"\"\\"={null=[2]}}`, api.Path{value(`"\"\\"`), value("null"), item(0)}},
	} {
		a, b := parsed(t, row.a), parsed(t, row.b)
		wantResult(t, a, b, row.want, true)
		wantResult(t, b, a, row.want, true)
		wantResult(t, a, a, nil, false)
		wantReference(t, a, b)
	}
}

func TestSharing(t *testing.T) { // P12.1, P12.2: sharing is ignored, and cycles are unrolled
	one := integer("1")
	for _, pair := range [][2]api.Graph{
		{rooted(list(1, 1), one), rooted(list(1, 2), one, one)},
		{rooted(list(0)), rooted(list(1), list(0))},
		{rooted(list(1), list(2), list(0)), rooted(list(1), list(0))},
		{rooted(list(0)), rooted(list(1), list(1))},
		{rooted(tag("t", 0)), rooted(tag("t", 1), tag("t", 2), tag("t", 1))},
		{rooted(entries(1, 0, 2, 0), one, text("a")), rooted(entries(1, 3, 2, 0), text("a"), one, entries(4, 0, 5, 3), one, text("a"))},
		{rooted(inOrder(entries(1, 0)), one), rooted(inOrder(entries(1, 2)), one, inOrder(entries(3, 0)), one)},
		{rooted(list(1, 0), one), rooted(list(2, 1), list(2, 0), one)},
	} {
		wantResult(t, pair[0], pair[1], nil, false)
		wantResult(t, pair[1], pair[0], nil, false)
	}
	two := integer("2")
	for _, row := range []struct {
		a, b api.Graph
		want api.Path
	}{
		{rooted(list(0)), rooted(list(1), list()), api.Path{item(0)}},
		{rooted(list(0, 1), one), rooted(list(0, 1), two), api.Path{item(1)}},
		{rooted(list(0, 1), one), rooted(list(1, 3), list(2, 3), list(0, 4), one, two), api.Path{item(0), item(0), item(1)}},
		{rooted(list(1, 1), one), rooted(list(1, 2), one, two), api.Path{item(1)}},
		// The pair of the second items is that of the roots, which has been visited, or is visited still.
		{rooted(list(1, 0, 1), one), rooted(list(1, 0, 2), one, two), api.Path{item(2)}},
		// The lists that contain the difference are reached first by the first item.
		{rooted(list(1, 2), list(2), list(3), one), rooted(list(1, 2), list(2), list(3), two), api.Path{item(0), item(0), item(0)}},
	} {
		wantResult(t, row.a, row.b, row.want, true)
		wantResult(t, row.b, row.a, row.want, true)
		wantReference(t, row.a, row.b)
	}
}

func TestRandomValues(t *testing.T) { // P12.1, P12.2, P12.3
	random := rand.New(rand.NewSource(1))
	differences := 0
	for range 8000 {
		a := validGraph(random, 14)
		b := validGraph(random, 14)
		switch random.Intn(4) {
		case 0:
			b = shuffled(random, a)
		case 1, 2:
			// A change of one node, which may not be reached in the same way by all paths.
			b = shuffled(random, unrolled(random, a))
			if at := random.Intn(len(b.Nodes)); random.Intn(3) > 0 && b.Nodes[at].Kind <= api.Text {
				b.Nodes[at].Text += "0"
			}
			if graph.Check(b) != api.OK {
				continue
			}
		}
		before := []api.Graph{clone(a), clone(b)}
		if wantReference(t, a, b) {
			differences++
		}
		if !identical(before[0], a) || !identical(before[1], b) {
			t.Fatalf("%s or %s has been changed", show(before[0]), show(before[1]))
		}
	}
	if differences < 2000 || differences > 6500 {
		t.Errorf("%d pairs were different", differences)
	}
}

func TestEquivalence(t *testing.T) { // P12.3
	random := rand.New(rand.NewSource(2))
	for range 300 {
		values := []api.Graph{validGraph(random, 8), validGraph(random, 3)}
		for range 3 {
			old := values[random.Intn(len(values))]
			if v := shuffled(random, unrolled(random, old)); graph.Check(v) == api.OK {
				values = append(values, v)
			}
			values = append(values, shuffled(random, old))
		}
		for _, a := range values {
			for _, b := range values {
				same := equal.Equal(a, b)
				if same != equal.Equal(b, a) || canon.Same(a, b) && !same {
					t.Fatalf("Equal(%s, %s) = %t", show(a), show(b), same)
				}
				if _, differ := equal.First(a, b); differ == same {
					t.Fatalf("First(%s, %s) returns %t", show(a), show(b), differ)
				}
				x, e := canon.Key(a)
				y, f := canon.Key(b)
				if e == api.OK && f == api.OK && (x == y) != same {
					t.Fatalf("Equal(%s, %s) = %t", x, y, same)
				}
				for _, c := range values {
					if same && equal.Equal(a, c) != equal.Equal(b, c) {
						t.Fatalf("Equal is not transitive on %s, %s and %s", show(a), show(b), show(c))
					}
				}
			}
		}
	}
}

func TestAllSmallLists(t *testing.T) { // P12.1, P12.2: all graphs of three lists and numbers
	choices := []api.Node{integer("1"), integer("2"), list()}
	for i := range 3 {
		choices = append(choices, list(i), tag("t", i))
		for j := range 3 {
			choices = append(choices, list(i, j))
		}
	}
	var values []api.Graph
	for _, x := range choices {
		for _, y := range choices {
			for _, z := range choices {
				for _, g := range []api.Graph{rooted(x, y, z), rooted(x, y), rooted(x)} {
					if graph.Check(g) == api.OK {
						values = append(values, g)
					}
				}
			}
		}
	}
	random := rand.New(rand.NewSource(3))
	for _, a := range values {
		for range 6 {
			wantReference(t, clone(a), clone(values[random.Intn(len(values))]))
		}
	}
	if len(values) < 500 {
		t.Errorf("only %d values", len(values))
	}
}

func TestInvalidValues(t *testing.T) { // P12.1, P12.2
	good := rooted(text("a"))
	deep := api.Graph{}
	for i := range api.MaxDepth + 1 {
		deep.Nodes = append(deep.Nodes, list(i+1))
	}
	deep.Nodes = append(deep.Nodes, list())
	for _, bad := range []api.Graph{
		{},
		{Nodes: []api.Node{text("a")}, Root: 1},
		rooted(text("\xff")),
		rooted(list(1)),
		rooted(text("a"), text("a")),
		rooted(entries(1, 0, 2, 0), text("a"), text("a")),
		deep,
		{Nodes: make([]api.Node, api.MaxNodes+1)},
	} {
		for _, pair := range [][2]api.Graph{{bad, good}, {good, bad}, {bad, bad}} {
			if equal.Equal(pair[0], pair[1]) {
				t.Errorf("%s and %s are equal", show(pair[0]), show(pair[1]))
			}
			if path, differ := equal.First(pair[0], pair[1]); len(path) != 0 || differ {
				t.Errorf("First(%s, %s) = %v, %t", show(pair[0]), show(pair[1]), path, differ)
			}
		}
	}
}

func TestLongKeys(t *testing.T) { // P12.2: key texts in paths have no limit
	long := strings.Repeat(`"`, api.MaxSource)
	a := rooted(entries(1, 2), text(long), integer("1"))
	b := rooted(entries(1, 2), text(long), integer("2"))
	c := rooted(entries(1, 2), text(long+"a"), integer("1"))
	wantResult(t, a, b, api.Path{value(`"` + strings.Repeat(`\"`, api.MaxSource) + `"`)}, true)
	wantResult(t, a, c, nil, true)
	wantResult(t, a, clone(a), nil, false)
}

func TestLargeValues(t *testing.T) { // P12.1, P12.2: values whose trees are large
	tower := func(last string) api.Graph {
		var g api.Graph
		for i := range api.MaxDepth {
			g.Nodes = append(g.Nodes, list(i+1, i+1))
		}
		g.Nodes = append(g.Nodes, integer(last))
		return g
	}
	wantResult(t, tower("1"), tower("1"), nil, false)
	path := make(api.Path, api.MaxDepth)
	wantResult(t, tower("1"), tower("2"), path, true)
	// The pairs of two cycles are as many as their product.
	ring := func(size int, last string) api.Graph {
		var g api.Graph
		for i := range size {
			g.Nodes = append(g.Nodes, list((i+1)%size, size+i))
		}
		for i := range size {
			g.Nodes = append(g.Nodes, integer(map[bool]string{true: last, false: "1"}[i == size-1]))
		}
		return g
	}
	wantResult(t, ring(31, "1"), ring(32, "1"), nil, false)
	// The pairs of lists are all visited before the pairs of numbers.
	if p, differ := equal.First(ring(31, "1"), ring(32, "2")); !differ || len(p) < 31 {
		t.Errorf("First of rings: %d steps, %t", len(p), differ)
	}
	wantReference(t, ring(31, "1"), ring(32, "2"))
	wantReference(t, ring(31, "2"), ring(32, "2"))
}
