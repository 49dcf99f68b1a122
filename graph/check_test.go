package graph_test

import (
	"math"
	"math/rand"
	"slices"
	"strings"
	"testing"

	"rosetta/api"
	"rosetta/graph"
)

// wantCheck checks the result of Check, and that Size and Depth return zero values for what Check rejects.
func wantCheck(t *testing.T, g api.Graph, want api.Errno) {
	t.Helper()
	if e := graph.Check(g); e != want {
		t.Fatalf("Check(%s) = %d; want %d", show(g), e, want)
	}
	depth, acyclic := graph.Depth(g)
	size := graph.Size(g)
	if want != api.OK && (size != 0 || depth != 0 || acyclic) {
		t.Fatalf("%s: Size %d, Depth %d, %t; want zero values", show(g), size, depth, acyclic)
	}
	if want == api.OK && size != len(g.Nodes) {
		t.Fatalf("%s: Size %d; want %d", show(g), size, len(g.Nodes))
	}
}

// wantReference checks the results for a graph against the reference, and returns that of Check.
func wantReference(t *testing.T, g api.Graph) api.Errno {
	t.Helper()
	want := referenceCheck(g)
	wantCheck(t, g, want)
	if want != api.OK {
		return want
	}
	reach := reachMatrix(g.Nodes)
	depth, acyclic := graph.Depth(g)
	if wantDepth, wantAcyclic := referenceDepth(g, reach), hasNoCycles(g.Nodes, reach); depth != wantDepth || acyclic != wantAcyclic {
		t.Fatalf("Depth(%s) = %d, %t; want %d, %t", show(g), depth, acyclic, wantDepth, wantAcyclic)
	}
	return want
}

func TestScalars(t *testing.T) { // P10.1, P10.2: the kinds with canonical and other texts
	long := strings.Repeat("9", api.MaxDigits)
	for kind, texts := range [][2][]string{
		api.Null:    {{""}, {"null", " ", "\x00"}},
		api.Bool:    {{"true", "false"}, {"", "True", "1", "true "}},
		api.Int:     {{"0", "1", "-7", long, "-" + long}, {"", "01", "-0", "+1", "1e0", "1.0", "x", long + "9"}},
		api.Dec:     {{"0e0", "1e0", "25e-1", "-25e-1", "1e2000"}, {"", "1", "10e0", "0e1", "2.5", "1e2001", "-0e0"}},
		api.Float:   {{"0p0", "-0p0", "1p0", "3p-1", "1p-1074", "inf", "-inf", "nan"}, {"", "0", "2p0", "1p-1075", "1p1024", "NaN", "+inf", "1.5"}},
		api.Text:    {{"", "a", "é", "\x00", "\U0010ffff", "\u2028", "a\r\nb"}, {"\xff", "a\xc0\x80", "\xed\xa0\x80", "é\xc3"}},
		api.Bytes:   {{"", "a", "\xff\x00", "\xed\xa0\x80"}, nil},
		api.Instant: {{"2026-11-20T09:46:38Z", "0000-01-01T00:00:00Z", "9999-12-31T23:59:59.999999999Z"}, {"", "2026-11-20", "2026-11-20T09:46:38", "2026-11-20t09:46:38Z", "2026-11-20T09:46:38+01:00", "2026-11-20T09:46:38.0Z", "2026-02-29T00:00:00Z"}},
		api.Local:   {{"2026-11-20", "09:46:38", "09:46:38.5", "2026-11-20T09:46:38"}, {"", "2026-11-20T09:46:38Z", "2026-11-20 09:46:38", "09:46:38.50", "24:00:00", "2026-02-29"}},
	} {
		for _, s := range texts[0] {
			want := rooted(scalar(kind, s))
			wantCheck(t, want, api.OK)
			g, e := graph.Scalar(kind, s)
			wantGraph(t, "Scalar", g, e, want, api.OK)
			if depth, acyclic := graph.Depth(g); depth != 0 || !acyclic {
				t.Errorf("Depth of %s: %d, %t", show(g), depth, acyclic)
			}
		}
		for _, s := range texts[1] {
			wantCheck(t, rooted(scalar(kind, s)), api.ErrForm)
			g, e := graph.Scalar(kind, s)
			wantGraph(t, "Scalar", g, e, api.Graph{}, api.ErrForm)
		}
	}
}

func TestKindsThatAreNoScalars(t *testing.T) { // P10.2
	for _, kind := range []int{api.List, api.Map, api.Tag, api.Kinds, -1, 100, math.MaxInt, math.MinInt} {
		for _, s := range []string{"", "1", "t"} {
			g, e := graph.Scalar(kind, s)
			wantGraph(t, "Scalar", g, e, api.Graph{}, api.ErrArg)
		}
		if kind < api.Null || kind >= api.Kinds {
			wantCheck(t, rooted(scalar(kind, "")), api.ErrForm)
			wantCheck(t, rooted(list(1), scalar(kind, "")), api.ErrForm)
		}
	}
}

func TestForms(t *testing.T) { // P10.1: the fields of each kind of nodes; nodes 1 to 4 are at hand for references
	check := func(n api.Node, want api.Errno) {
		t.Helper()
		wantCheck(t, rooted(list(1, 2, 3), n, text("a"), text("b")), want)
	}
	for kind, s := range []string{"", "true", "1", "1e0", "1p0", "a", "a", "2026-11-20T09:46:38Z", "2026-11-20"} {
		check(scalar(kind, s), api.OK)
		check(api.Node{Kind: kind, Text: s, Keys: []int{}, Items: []int{}}, api.OK)
		check(api.Node{Kind: kind, Text: s, Ordered: true}, api.ErrForm)
		check(api.Node{Kind: kind, Text: s, Items: []int{2}}, api.ErrForm)
		check(api.Node{Kind: kind, Text: s, Keys: []int{2}}, api.ErrForm)
		check(api.Node{Kind: kind, Text: s, Keys: []int{2}, Items: []int{3}}, api.ErrForm)
	}
	check(list(), api.OK)
	check(list(2, 3, 2), api.OK)
	check(api.Node{Kind: api.List, Text: "a", Items: []int{2}}, api.ErrForm)
	check(api.Node{Kind: api.List, Ordered: true, Items: []int{2}}, api.ErrForm)
	check(api.Node{Kind: api.List, Ordered: true}, api.ErrForm)
	wantCheck(t, rooted(api.Node{Kind: api.List, Keys: []int{1}}, text("a")), api.ErrForm)
	wantCheck(t, rooted(api.Node{Kind: api.List, Keys: []int{1}, Items: []int{2}}, text("a"), text("b")), api.ErrForm)

	check(entries(), api.OK)
	check(inOrder(entries()), api.OK)
	wantCheck(t, rooted(entries(1, 2), text("a"), text("a")), api.OK)
	wantCheck(t, rooted(inOrder(entries(1, 2)), text("a"), text("a")), api.OK)
	wantCheck(t, rooted(api.Node{Kind: api.Map, Text: "m", Keys: []int{1}, Items: []int{2}}, text("a"), text("a")), api.ErrForm)
	wantCheck(t, rooted(api.Node{Kind: api.Map, Keys: []int{1}}, text("a")), api.ErrForm)
	wantCheck(t, rooted(api.Node{Kind: api.Map, Items: []int{1}}, text("a")), api.ErrForm)
	wantCheck(t, rooted(api.Node{Kind: api.Map, Keys: []int{1, 2}, Items: []int{3}}, text("a"), text("b"), text("c")), api.ErrForm)
	wantCheck(t, rooted(api.Node{Kind: api.Map, Keys: []int{1}, Items: []int{2, 3}}, text("a"), text("b"), text("c")), api.ErrForm)

	check(tag("t", 2), api.OK)
	check(api.Node{Kind: api.Tag, Text: "t"}, api.ErrForm)
	check(api.Node{Kind: api.Tag, Text: "t", Items: []int{2, 3}}, api.ErrForm)
	check(api.Node{Kind: api.Tag, Text: "t", Ordered: true, Items: []int{2}}, api.ErrForm)
	check(tag("", 2), api.ErrForm)
	wantCheck(t, rooted(api.Node{Kind: api.Tag, Text: "t", Keys: []int{1}, Items: []int{2}}, text("a"), text("b")), api.ErrForm)
}

func TestTagNames(t *testing.T) { // P10.1, P10.2: every byte, and the lengths
	content := rooted(scalar(api.Int, "1"))
	check := func(name string, valid bool) {
		t.Helper()
		want, wantE, wantTag := rooted(tag(name, 1), scalar(api.Int, "1")), api.OK, api.OK
		if !valid {
			wantE, wantTag = api.ErrForm, api.ErrArg
		}
		wantCheck(t, want, wantE)
		if !valid {
			want = api.Graph{}
		}
		g, e := graph.Tag(name, content)
		wantGraph(t, "Tag of "+name, g, e, want, wantTag)
	}
	for b := range 256 {
		c := string([]byte{byte(b)})
		allowed := strings.Contains("ABCDEFGHIJKLMNOPQRSTUVWXYZabcdefghijklmnopqrstuvwxyz0123456789_-.:", c)
		for _, name := range []string{c, "a" + c, c + "z", "t" + c + "t"} {
			check(name, allowed)
		}
	}
	check("", false)
	check("é", false)
	check(strings.Repeat("x", api.MaxName), true)
	check(strings.Repeat("x", api.MaxName+1), false)
	check(strings.Repeat("x", api.MaxName)+" ", false)
}

func TestReferencesOutOfRange(t *testing.T) { // P10.1
	for _, r := range []int{-1, 3, 4, math.MaxInt, math.MinInt} {
		nodes := []api.Node{list(1, 2), text("a"), text("b")}
		wantCheck(t, api.Graph{Nodes: nodes, Root: r}, api.ErrForm)
		wantCheck(t, rooted(list(1, 2, r), text("a"), text("b")), api.ErrForm)
		wantCheck(t, rooted(list(r), text("a"), text("b")), api.ErrForm)
		wantCheck(t, rooted(entries(1, r, 2, 0), text("a"), text("b")), api.ErrForm)
		wantCheck(t, rooted(entries(r, 1), text("a"), text("b")), api.ErrForm)
		wantCheck(t, rooted(list(1, 2), tag("t", r), text("b")), api.ErrForm)
	}
	for _, r := range []int{0, 1, -1} {
		wantCheck(t, api.Graph{Root: r}, api.ErrForm)
		wantCheck(t, api.Graph{Nodes: []api.Node{}, Root: r}, api.ErrForm)
	}
}

func TestNodesThatAreNotReached(t *testing.T) { // P10.1
	wantCheck(t, rooted(text("a"), text("b")), api.ErrForm)
	wantCheck(t, rooted(list(1), text("a"), text("b")), api.ErrForm)
	wantCheck(t, rooted(list(1), text("a"), list(0, 1)), api.ErrForm)
	wantCheck(t, api.Graph{Nodes: []api.Node{list(1), text("a")}, Root: 1}, api.ErrForm)
	wantCheck(t, api.Graph{Nodes: []api.Node{text("a"), list(0)}, Root: 1}, api.OK)
	// Nodes that are reached only through a key, from a node with a greater index, and in a cycle.
	wantCheck(t, rooted(entries(1, 2), list(3), text("a"), text("b")), api.OK)
	wantCheck(t, rooted(list(3), text("a"), list(1), list(2)), api.OK)
	wantCheck(t, rooted(list(), list(2), list(1)), api.ErrForm)
	wantCheck(t, rooted(list(1), list(2), list(1)), api.OK)
}

func TestNodesOfKeys(t *testing.T) { // P10.1: condition 3, with the document's example
	loop := rooted(list(0))
	wantCheck(t, loop, api.OK)
	wantCheck(t, rooted(list(0), api.Node{Kind: api.Map, Keys: []int{1}, Items: []int{0}}), api.ErrForm)
	for _, g := range []api.Graph{
		rooted(entries(1, 1), text("a")),                                    // key and value
		rooted(entries(1, 2, 1, 2), text("a"), text("b")),                   // two keys of a map
		rooted(entries(1, 2, 3, 1), text("a"), text("b"), text("c")),        // the value of another entry
		rooted(list(1, 2), entries(2, 3), text("a"), text("b")),             // an item of another node
		rooted(list(1, 2), entries(3, 4), entries(3, 4), text("a"), list()), // keys of two maps
		rooted(entries(1, 3), list(2, 2), text("a"), text("b")),             // twice within a key
		rooted(entries(1, 2), list(2), text("a")),                           // within a key, and as the value
		rooted(entries(1, 2), list(1), text("a")),                           // a key that contains itself
		rooted(entries(1, 2), list(0), text("a")),                           // a key that contains its map
		rooted(entries(0, 1), text("a")),                                    // a map that is its own key
		rooted(entries(1, 2), entries(3, 2), text("a"), text("b")),          // the value in a key, and outside
		rooted(entries(1, 4), entries(2, 3), text("a"), list(2), list()),    // the key in a key, and in its value
		rooted(entries(1, 3), tag("t", 2), list(2), text("b")),              // a cycle within a key
		{Nodes: []api.Node{entries(1, 0), text("a")}, Root: 1},              // the root is the key
		{Nodes: []api.Node{list(1), entries(2, 1), list(0)}, Root: 2},       // the root is the key, and reaches all
	} {
		wantCheck(t, g, api.ErrForm)
	}
	for _, g := range []api.Graph{
		rooted(entries(1, 0), text("a")),                                                         // the map as its value
		rooted(entries(1, 3, 2, 3), text("a"), text("b"), list()),                                // a shared value
		rooted(entries(1, 4), entries(2, 3), text("a"), text("a"), text("a")),                    // a map as a key
		rooted(entries(1, 3), list(2), text("a"), list(0)),                                       // a cycle beside a key
		rooted(list(1, 1), entries(2, 3), text("a"), text("b")),                                  // a shared map with a key
		{Nodes: []api.Node{text("a"), entries(0, 2), text("b"), tag("t", 1)}, Root: 3},           // the root stands last
		rooted(entries(1, 2), tag("t", 3), text("a"), inOrder(entries(4, 5)), text("a"), list()), // deep in a key
	} {
		wantCheck(t, g, api.OK)
	}
}

// pairs returns a map whose keys are the values of the given graphs, and whose values are null.
func pairs(keys ...[]api.Node) api.Graph {
	g := rooted(api.Node{Kind: api.Map}, scalar(api.Null, ""))
	for _, nodes := range keys {
		by := len(g.Nodes)
		g.Nodes[0].Keys = append(g.Nodes[0].Keys, by)
		g.Nodes[0].Items = append(g.Nodes[0].Items, 1)
		for _, n := range clone(api.Graph{Nodes: nodes}).Nodes {
			for _, references := range [][]int{n.Keys, n.Items} {
				for i := range references {
					references[i] += by
				}
			}
			g.Nodes = append(g.Nodes, n)
		}
	}
	return g
}

// differentKeys are pairwise different.
var differentKeys = [][]api.Node{
	{scalar(api.Null, "")}, {scalar(api.Bool, "true")}, {scalar(api.Bool, "false")},
	{text("")}, {text("1")}, {text("true")}, {text("a")}, {text("2026-11-20")}, {text(",")}, {text("0,0")},
	{scalar(api.Int, "1")}, {scalar(api.Int, "0")}, {scalar(api.Dec, "1e0")}, {scalar(api.Float, "1p0")},
	{scalar(api.Float, "0p0")}, {scalar(api.Float, "-0p0")}, {scalar(api.Float, "nan")},
	{scalar(api.Bytes, "a")}, {scalar(api.Bytes, "")}, {scalar(api.Bytes, "1")}, {scalar(api.Local, "2026-11-20")},
	{list()}, {entries()}, {inOrder(entries())},
	{list(1), text("a")}, {list(1), text("b")}, {list(1), list()}, {list(1), list(2), text("a")},
	{list(1, 2), text("a"), text("b")}, {list(1, 2), text("b"), text("a")}, {list(1, 2), text("a"), text("a")},
	{list(1, 2, 3), text("a"), text("b"), text("a")}, {list(1, 2), list(3), text("b"), text("a")}, {list(1), list(2, 3), text("a"), text("b")},
	{tag("t", 1), text("a")}, {tag("u", 1), text("a")}, {tag("t", 1), text("b")}, {tag("t", 1), tag("t", 2), text("a")}, {tag("t", 1), list(2), text("a")},
	{entries(1, 2), text("a"), text("b")}, {entries(1, 2), text("b"), text("a")}, {inOrder(entries(1, 2)), text("a"), text("b")},
	{entries(1, 2, 3, 4), text("a"), text("b"), text("b"), text("a")},
	{entries(1, 2, 3, 4), text("a"), text("a"), text("b"), text("b")},
	{entries(1, 2, 3, 4), text("a"), text("a"), text("b"), text("c")},
	{inOrder(entries(1, 2, 3, 4)), text("a"), text("a"), text("b"), text("b")},
	{inOrder(entries(1, 2, 3, 4)), text("b"), text("b"), text("a"), text("a")},
	{entries(1, 2), entries(), text("b")}, {entries(1, 2), text("b"), entries()}, {entries(1, 2), inOrder(entries()), text("b")},
}

func TestDifferentKeys(t *testing.T) { // P10.1: each pair of keys, and all together
	for i, a := range differentKeys {
		for j, b := range differentKeys {
			want := api.OK
			if i == j {
				want = api.ErrTwice
			}
			wantCheck(t, pairs(a, b), want)
		}
	}
	wantCheck(t, pairs(differentKeys...), api.OK)
	for _, a := range differentKeys {
		wantCheck(t, pairs(append(slices.Clone(differentKeys), a)...), api.ErrTwice)
	}
}

func TestEqualKeys(t *testing.T) { // P10.1: keys whose nodes or entries are in another order
	a, b, one, two := text("a"), text("b"), scalar(api.Int, "1"), scalar(api.Int, "2")
	for _, keys := range [][2][]api.Node{
		{{entries(1, 2, 3, 4), a, one, b, two}, {entries(1, 2, 3, 4), b, two, a, one}},
		{{entries(1, 2, 3, 4), a, one, b, two}, {entries(4, 3, 2, 1), two, b, one, a}},
		{{entries(1, 2, 3, 4, 5, 6), a, one, b, two, list(), one}, {entries(1, 2, 3, 4, 5, 6), list(), one, a, one, b, two}},
		{{list(1), entries(2, 3, 4, 5), a, one, b, two}, {list(5), a, one, b, two, entries(3, 4, 1, 2)}},
		{{tag("t", 1), entries(2, 3, 4, 5), a, one, b, two}, {tag("t", 1), entries(4, 5, 2, 3), a, one, b, two}},
		{{entries(1, 6), entries(2, 3, 4, 5), a, one, b, two, one}, {entries(1, 6), entries(4, 5, 2, 3), a, one, b, two, one}},
		{{entries(6, 1), entries(2, 3, 4, 5), a, one, b, two, one}, {entries(6, 1), entries(4, 5, 2, 3), a, one, b, two, one}},
		{{inOrder(entries(6, 1)), entries(2, 3, 4, 5), a, one, b, two, one}, {inOrder(entries(6, 1)), entries(4, 5, 2, 3), a, one, b, two, one}},
		{{list(2, 1), b, a}, {list(1, 2), a, b}},
	} {
		wantCheck(t, pairs(keys[0], keys[1]), api.ErrTwice)
		wantCheck(t, pairs(keys[1], []api.Node{one}, keys[0]), api.ErrTwice)
	}
}

func TestKeysOfInnerMaps(t *testing.T) { // P10.1: equal keys anywhere; equal keys of different maps are allowed
	a, one := text("a"), scalar(api.Int, "1")
	wantCheck(t, rooted(list(1, 2), entries(3, 4), entries(5, 4), a, one, a), api.OK)
	wantCheck(t, rooted(entries(1, 2), a, entries(3, 4), a, one), api.OK)
	wantCheck(t, rooted(list(1), tag("t", 2), entries(3, 4, 5, 4), a, one, a), api.ErrTwice)
	wantCheck(t, rooted(inOrder(entries(1, 2, 3, 2)), a, one, a), api.ErrTwice)
	wantCheck(t, pairs([]api.Node{entries(1, 2, 3, 4), a, one, a, one}), api.ErrTwice)
	wantCheck(t, pairs([]api.Node{list(1), inOrder(entries(2, 3, 4, 5)), a, one, a, scalar(api.Int, "2")}), api.ErrTwice)
	wantCheck(t, pairs([]api.Node{entries(1, 6), entries(2, 3, 4, 5), a, one, a, one, one}), api.ErrTwice)
	wantCheck(t, pairs([]api.Node{entries(6, 1), entries(2, 3, 4, 5), a, one, a, one, one}), api.ErrTwice)
}

func TestOrderOfErrors(t *testing.T) { // P10.1: each error before the next ones
	twice := []api.Node{entries(1, 2, 3, 2), text("a"), scalar(api.Int, "1"), text("a")}
	deepTwice := append(slices.Clone(twice), list(5))
	deepTwice[0].Items = []int{2, 4}
	for i := range 40 {
		deepTwice = append(deepTwice, list(6+i))
	}
	deepTwice = append(deepTwice, list())
	wantCheck(t, rooted(deepTwice...), api.ErrTwice)
	deepTwice[1].Text = "b"
	wantCheck(t, rooted(deepTwice...), api.ErrDeep)
	deepTwice[1].Text = "a"
	deepTwice[len(deepTwice)-1].Text = "x"
	wantCheck(t, rooted(deepTwice...), api.ErrForm)
	wantCheck(t, rooted(append(twice, text("b"))...), api.ErrForm)
	for _, root := range []int{0, -1} {
		wantCheck(t, api.Graph{Nodes: make([]api.Node, api.MaxNodes+1), Root: root}, api.ErrMany)
	}
	wantCheck(t, api.Graph{Nodes: make([]api.Node, api.MaxNodes)}, api.ErrForm)
}

// chain returns lists that contain each other, the last one the node of that index.
func chain(length, last int) []api.Node {
	nodes := make([]api.Node, length)
	for i := range nodes {
		nodes[i] = list(i + 1)
	}
	nodes[length-1] = list(last)
	return nodes
}

func TestDepths(t *testing.T) { // P10.1, P10.3: paths, cycles, and paths of cycles, through items, keys and tags
	check := func(g api.Graph, depth int, acyclic bool) {
		t.Helper()
		if depth > api.MaxDepth {
			wantCheck(t, g, api.ErrDeep)
			return
		}
		wantCheck(t, g, api.OK)
		if got, is := graph.Depth(g); got != depth || is != acyclic {
			t.Fatalf("Depth(%s) = %d, %t; want %d, %t", show(g), got, is, depth, acyclic)
		}
	}
	check(rooted(list()), 0, true)
	check(rooted(list(0)), 0, false)
	check(rooted(list(1, 2), scalar(api.Int, "1"), text("a")), 1, true)
	check(rooted(list(1, 2, 0), scalar(api.Int, "1"), text("a")), 1, false)
	check(rooted(list(1, 2), list(2), list(3), list()), 3, true)
	check(rooted(list(3, 2, 1), list(2), list(3), list()), 3, true)
	for length := 1; length <= 40; length++ {
		// A chain, also with a key or with a tag at its end, and with a shorter one beside it.
		check(rooted(append(chain(length, length), list())...), length, true)
		check(rooted(append(chain(length, length), tag("t", length+1), text("a"))...), length+1, true)
		check(rooted(append(chain(length, length), entries(length+1, length+2), list(length+3), list(), list())...), length+2, true)
		check(rooted(append(chain(length, length), entries(length+1, length+2), list(), list(length+3), list())...), length+2, true)
		// A ring, and a ring at the end of a chain, and a chain at the end of a ring.
		check(rooted(chain(length, 0)...), length-1, false)
		check(rooted(append(chain(length, length), list(length))...), length, false)
		check(rooted(append(chain(length, length), list(length, length+1), list())...), length+1, false)
		for back := range length {
			check(rooted(chain(length, back)...), length-1, false)
		}
		ring := chain(length, 0)
		ring[length/2].Items = append(ring[length/2].Items, length)
		check(rooted(append(ring, list(length+1), list())...), length+1, false)
		// Two rings, of which the first one leads to the other one by any node.
		for i := range length {
			two := append(chain(length, 0), list(length+1), list(length))
			two[i].Items = append(two[i].Items, length+1)
			check(rooted(two...), length+1, false)
		}
	}
	// The heaviest path does not lead through the first or the largest component.
	check(rooted(list(1, 2, 5), list(), list(3), list(4), list(), list(6), list(5)), 3, false)
	check(rooted(list(1, 4), list(2), list(3), list(), list(5), list(6), list(4)), 3, false)
	check(rooted(list(4, 1), list(2), list(3), list(1), list(5), list()), 3, false)
}

func TestLargeGraphs(t *testing.T) { // P10.1: MaxNodes, long chains and rings, nested keys, many references
	wide := make([]int, api.MaxNodes-1)
	for i := range wide {
		wide[i] = i + 1
	}
	nodes := append([]api.Node{list(wide...)}, make([]api.Node, api.MaxNodes-1)...)
	wantCheck(t, rooted(nodes...), api.OK)
	wantCheck(t, rooted(append(nodes, api.Node{})...), api.ErrMany)
	nodes[0].Items = slices.Repeat(wide, 100)
	wantCheck(t, rooted(nodes...), api.OK)
	nodes[0].Items[300000] = 0
	wantCheck(t, rooted(nodes...), api.OK)
	wantCheck(t, rooted(append(chain(api.MaxNodes-1, api.MaxNodes-1), list())...), api.ErrDeep)
	wantCheck(t, rooted(chain(api.MaxNodes, 0)...), api.ErrDeep)
	// Each map is the key of the one before.
	nested := make([]api.Node, api.MaxNodes)
	for i := 0; i < api.MaxNodes-2; i += 2 {
		nested[i], nested[i+1] = entries(i+2, i+1), scalar(api.Null, "")
	}
	nested[api.MaxNodes-2], nested[api.MaxNodes-1] = list(api.MaxNodes-1), list()
	wantCheck(t, rooted(nested...), api.ErrDeep)
	// Many keys, of which the last one is new or not.
	keys := []api.Node{{Kind: api.Map}}
	for i := 1; i < api.MaxNodes-1; i += 2 {
		keys[0].Keys, keys[0].Items = append(keys[0].Keys, i), append(keys[0].Items, i+1)
		keys = append(keys, text(strings.Repeat("k", i)), scalar(api.Null, ""))
	}
	wantCheck(t, rooted(keys...), api.OK)
	keys[len(keys)-2].Text = "k"
	wantCheck(t, rooted(keys...), api.ErrTwice)
}

// smallNodes returns all nodes of some kinds whose references are from 0 to size - 1, and some that are wrong.
func smallNodes(size int) []api.Node {
	nodes := []api.Node{scalar(api.Null, ""), text("a"), text("b"), {Kind: api.Bool}, list(), list(-1), list(size), entries(), inOrder(entries()), {Kind: api.Tag, Text: "t"}}
	for i := range size {
		nodes = append(nodes, list(i), tag("t", i), api.Node{Kind: api.Map, Keys: []int{i}})
		for j := range size {
			nodes = append(nodes, list(i, j), entries(i, j))
			for k := range size * size {
				two := entries(i, j, k/size, k%size)
				nodes = append(nodes, two, inOrder(two))
			}
		}
	}
	return nodes
}

func TestAllSmallGraphs(t *testing.T) { // P10.1, P10.3: all graphs of one and two nodes, and some of three
	for _, n := range smallNodes(1) {
		wantReference(t, rooted(n))
	}
	two := smallNodes(2)
	for _, a := range two {
		for _, b := range two {
			wantReference(t, api.Graph{Nodes: []api.Node{a, b}})
			wantReference(t, api.Graph{Nodes: []api.Node{a, b}, Root: 1})
		}
	}
	three := smallNodes(3)
	random := rand.New(rand.NewSource(14))
	for range 200000 {
		nodes := []api.Node{three[random.Intn(len(three))], three[random.Intn(len(three))], three[random.Intn(len(three))]}
		wantReference(t, api.Graph{Nodes: nodes, Root: random.Intn(3)})
	}
}

func TestRandomGraphs(t *testing.T) { // P10.1, P10.3
	random := rand.New(rand.NewSource(15))
	for _, c := range []struct {
		size, rounds int
		errors       []api.Errno
	}{
		{5, 60000, []api.Errno{api.OK, api.ErrForm, api.ErrTwice}},
		{12, 40000, []api.Errno{api.OK, api.ErrForm, api.ErrTwice}},
		{90, 2000, []api.Errno{api.OK, api.ErrForm, api.ErrTwice, api.ErrDeep}},
	} {
		found := map[api.Errno]int{}
		for range c.rounds {
			found[wantReference(t, randomGraph(random, c.size))]++
		}
		for _, e := range c.errors {
			if found[e] < c.rounds/500 {
				t.Errorf("of %d graphs of up to %d nodes only %d have the result %d", c.rounds, c.size, found[e], e)
			}
		}
	}
}

func TestCheckKeepsItsArgument(t *testing.T) { // DOC.md, Memory
	random := rand.New(rand.NewSource(16))
	for range 5000 {
		g := randomGraph(random, 12)
		before := clone(g)
		graph.Check(g)
		graph.Size(g)
		graph.Depth(g)
		if !identical(g, before) {
			t.Fatalf("%s has become %s", show(before), show(g))
		}
	}
}
