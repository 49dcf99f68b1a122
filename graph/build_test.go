package graph_test

import (
	"fmt"
	"math"
	"math/rand"
	"slices"
	"testing"

	"rosetta/api"
	"rosetta/graph"
)

// The graphs that most tests use.

func null() api.Graph            { return rooted(scalar(api.Null, "")) }
func one() api.Graph             { return rooted(scalar(api.Int, "1")) }
func textOf(s string) api.Graph  { return rooted(text(s)) }
func notValid() api.Graph        { return rooted(scalar(api.Int, "01")) }
func shared() api.Graph          { return rooted(list(1, 1), text("s")) }
func loop() api.Graph            { return rooted(list(0)) }
func rootLast() api.Graph        { return api.Graph{Nodes: []api.Node{text("x"), list(0)}, Root: 1} }
func smallMap() api.Graph        { return rooted(entries(1, 2), text("k"), text("v")) }
func deep(length int) api.Graph  { return rooted(append(chain(length, length), text("d"))...) }
func large(length int) api.Graph { return wide(length, null()) }

// wide returns the list of that many copies of a scalar, which has length nodes in all.
func wide(length int, g api.Graph) api.Graph {
	w := rooted(list())
	for i := 1; i < length; i++ {
		w.Nodes = append(w.Nodes, g.Nodes[0])
		w.Nodes[0].Items = append(w.Nodes[0].Items, i)
	}
	return w
}

// result is what a function must return.
type result struct {
	g api.Graph
	e api.Errno
}

// checkedResult returns a graph, or the error of Check.
func checkedResult(g api.Graph) result {
	if e := graph.Check(g); e != api.OK {
		return result{e: e}
	}
	return result{g: g}
}

// anyInvalid reports whether Check rejects one of the graphs.
func anyInvalid(graphs ...api.Graph) bool {
	return slices.ContainsFunc(graphs, func(g api.Graph) bool { return graph.Check(g) != api.OK })
}

// hasSharing reports whether a node is referenced more than once.
func hasSharing(g api.Graph) bool {
	for i := range g.Nodes {
		if referenceCount(g, i) > 1 {
			return true
		}
	}
	return false
}

// push appends the nodes of a part to a graph and returns the index of its root.
func push(g *api.Graph, part api.Graph) int {
	by := len(g.Nodes)
	for _, n := range clone(part).Nodes {
		for _, references := range [][]int{n.Keys, n.Items} {
			for i := range references {
				references[i] += by
			}
		}
		g.Nodes = append(g.Nodes, n)
	}
	return by + part.Root
}

// referenceContainer is the definition of List and Tag, but for the name.
func referenceContainer(n api.Node, items []api.Graph) result {
	if anyInvalid(items...) {
		return result{e: api.ErrForm}
	}
	g := rooted(n)
	for _, item := range items {
		at := push(&g, item)
		g.Nodes[0].Items = append(g.Nodes[0].Items, at)
	}
	return checkedResult(g)
}

// referenceMap is the definition of Map.
func referenceMap(ordered bool, pairs []graph.Pair) result {
	for _, p := range pairs {
		if anyInvalid(p.Key, p.Value) {
			return result{e: api.ErrForm}
		}
	}
	for _, p := range pairs {
		if hasSharing(p.Key) {
			return result{e: api.ErrKey}
		}
	}
	g := rooted(api.Node{Kind: api.Map, Ordered: ordered})
	for _, p := range pairs {
		key := push(&g, p.Key)
		value := push(&g, p.Value)
		g.Nodes[0].Keys, g.Nodes[0].Items = append(g.Nodes[0].Keys, key), append(g.Nodes[0].Items, value)
	}
	return checkedResult(g)
}

// drop removes, one after another, the nodes that the root does not reach.
func drop(g api.Graph) api.Graph {
	reach := reachMatrix(g.Nodes)[g.Root]
	for i := len(g.Nodes) - 1; i >= 0; i-- {
		if reach[i] {
			continue
		}
		g.Nodes = slices.Delete(g.Nodes, i, i+1)
		for _, n := range g.Nodes {
			for _, references := range [][]int{n.Keys, n.Items} {
				for j, r := range references {
					if r > i {
						references[j] = r - 1
					}
				}
			}
		}
		if g.Root > i {
			g.Root--
		}
	}
	return g
}

// referenceSub is the definition of Sub.
func referenceSub(g api.Graph, node int) result {
	if anyInvalid(g) {
		return result{e: api.ErrForm}
	}
	if node < 0 || node >= len(g.Nodes) {
		return result{e: api.ErrRange}
	}
	c := clone(g)
	c.Root = node
	return result{g: drop(c)}
}

// referenceReplace is the definition of Replace.
func referenceReplace(g api.Graph, node int, with api.Graph) result {
	if anyInvalid(g, with) {
		return result{e: api.ErrForm}
	}
	if node < 0 || node >= len(g.Nodes) {
		return result{e: api.ErrRange}
	}
	if isKeyNode(g.Nodes, reachMatrix(g.Nodes), node) && hasSharing(with) {
		return result{e: api.ErrKey}
	}
	c := clone(g)
	size := len(c.Nodes)
	root := push(&c, with)
	for _, n := range c.Nodes[:size] {
		for _, references := range [][]int{n.Keys, n.Items} {
			for i, r := range references {
				if r == node {
					references[i] = root
				}
			}
		}
	}
	if c.Root == node {
		c.Root = root
	}
	return checkedResult(drop(c))
}

// wantResult checks the result of a function.
func wantResult(t *testing.T, what string, got api.Graph, e api.Errno, want result) {
	t.Helper()
	wantGraph(t, what, got, e, want.g, want.e)
}

func TestList(t *testing.T) { // P10.2
	g, e := graph.List()
	wantGraph(t, "List of nothing", g, e, rooted(list()), api.OK)
	g, e = graph.List(nil...)
	wantGraph(t, "List of nil", g, e, rooted(list()), api.OK)
	g, e = graph.List(one(), textOf("a"))
	wantGraph(t, "the document's example", g, e, rooted(list(1, 2), scalar(api.Int, "1"), text("a")), api.OK)
	if depth, acyclic := graph.Depth(g); depth != 1 || !acyclic {
		t.Errorf("the depth of the document's example is %d, %t", depth, acyclic)
	}
	g, e = graph.List(rootLast(), loop(), shared(), smallMap())
	wantGraph(t, "List of containers", g, e, rooted(list(2, 3, 4, 6), text("x"), list(1), list(3), list(5, 5), text("s"), entries(7, 8), text("k"), text("v")), api.OK)
	for _, items := range [][]api.Graph{{notValid()}, {one(), api.Graph{}}, {notValid(), one()}, {large(api.MaxNodes), notValid()}, {deep(32), notValid()}, {rooted(make([]api.Node, api.MaxNodes+1)...)}, {deep(33)}, {large(api.MaxNodes + 1)}} {
		g, e = graph.List(items...)
		wantGraph(t, "List of what is not valid", g, e, api.Graph{}, api.ErrForm)
	}
}

func TestLimitsOfContainers(t *testing.T) { // P10.2: MaxNodes and MaxDepth
	many := slices.Repeat([]api.Graph{null()}, api.MaxNodes)
	for _, c := range []struct {
		items []api.Graph
		e     api.Errno
	}{
		{many[1:], api.OK},
		{many, api.ErrMany},
		{[]api.Graph{large(api.MaxNodes - 1)}, api.OK},
		{[]api.Graph{large(api.MaxNodes)}, api.ErrMany},
		{[]api.Graph{large(2000), large(2095)}, api.OK},
		{[]api.Graph{large(2000), large(2096)}, api.ErrMany},
		{slices.Repeat([]api.Graph{large(api.MaxNodes)}, 300), api.ErrMany},
		{[]api.Graph{deep(31)}, api.OK},
		{[]api.Graph{deep(32)}, api.ErrDeep},
		{[]api.Graph{one(), deep(32), one()}, api.ErrDeep},
		{[]api.Graph{rooted(chain(32, 0)...)}, api.OK},
		{[]api.Graph{rooted(chain(33, 0)...)}, api.ErrDeep},
		{[]api.Graph{deep(32), large(4090)}, api.ErrMany},
	} {
		g, e := graph.List(c.items...)
		want := result{e: c.e}
		if c.e == api.OK {
			want = referenceContainer(api.Node{Kind: api.List}, c.items)
		}
		wantResult(t, "List", g, e, want)
		if len(c.items) == 1 {
			g, e = graph.Tag("t", c.items[0])
			if c.e == api.OK {
				want = referenceContainer(api.Node{Kind: api.Tag, Text: "t"}, c.items)
			}
			wantResult(t, "Tag", g, e, want)
		}
	}
	for size, want := range map[int]api.Errno{api.MaxNodes - 2: api.OK, api.MaxNodes - 1: api.ErrMany, api.MaxNodes: api.ErrMany} {
		if _, e := graph.Map(true, graph.Pair{Key: textOf("k"), Value: large(size)}); e != want {
			t.Errorf("Map with %d nodes and two: %d; want %d", size, e, want)
		}
		if _, e := graph.Map(true, graph.Pair{Key: large(size), Value: textOf("v")}); e != want {
			t.Errorf("Map with a key of %d nodes: %d; want %d", size, e, want)
		}
	}
	for length, want := range map[int]api.Errno{31: api.OK, 32: api.ErrDeep} {
		if _, e := graph.Map(false, graph.Pair{Key: deep(length), Value: one()}); e != want {
			t.Errorf("Map with a key of depth %d: %d; want %d", length, e, want)
		}
	}
}

func TestMap(t *testing.T) { // P10.2
	a, b := textOf("a"), textOf("b")
	for _, ordered := range []bool{false, true} {
		order := func(n api.Node) api.Node {
			n.Ordered = ordered
			return n
		}
		g, e := graph.Map(ordered)
		wantGraph(t, "Map of nothing", g, e, rooted(order(entries())), api.OK)
		g, e = graph.Map(ordered, graph.Pair{Key: b, Value: one()}, graph.Pair{Key: a, Value: b})
		wantGraph(t, "Map of two entries", g, e, rooted(order(entries(1, 2, 3, 4)), text("b"), scalar(api.Int, "1"), text("a"), text("b")), api.OK)
		g, e = graph.Map(ordered, graph.Pair{Key: rootLast(), Value: rootLast()}, graph.Pair{Key: smallMap(), Value: loop()}, graph.Pair{Key: a, Value: shared()})
		wantGraph(t, "Map of containers", g, e, rooted(order(entries(2, 4, 5, 8, 9, 10)), text("x"), list(1), text("x"), list(3), entries(6, 7), text("k"), text("v"), list(8), text("a"), list(11, 11), text("s")), api.OK)
		for _, c := range []struct {
			pairs []graph.Pair
			e     api.Errno
		}{
			{[]graph.Pair{{Key: notValid(), Value: a}}, api.ErrForm},
			{[]graph.Pair{{Key: a, Value: notValid()}}, api.ErrForm},
			{[]graph.Pair{{Key: a}}, api.ErrForm},
			{[]graph.Pair{{Value: a}}, api.ErrForm},
			{[]graph.Pair{{Key: a, Value: a}, {Key: b, Value: notValid()}}, api.ErrForm},
			{[]graph.Pair{{Key: shared(), Value: a}}, api.ErrKey},
			{[]graph.Pair{{Key: loop(), Value: a}}, api.ErrKey},
			{[]graph.Pair{{Key: a, Value: a}, {Key: rooted(list(1), list(0)), Value: a}}, api.ErrKey},
			{[]graph.Pair{{Key: shared(), Value: notValid()}}, api.ErrForm},
			{[]graph.Pair{{Key: a, Value: a}, {Key: shared(), Value: a}, {Key: a, Value: a}}, api.ErrKey},
			{[]graph.Pair{{Key: shared(), Value: a}, {Key: b, Value: large(api.MaxNodes)}}, api.ErrKey},
			{[]graph.Pair{{Key: a, Value: large(api.MaxNodes)}, {Key: b, Value: notValid()}}, api.ErrForm},
			{[]graph.Pair{{Key: a, Value: b}, {Key: a, Value: a}}, api.ErrTwice},
			{[]graph.Pair{{Key: a, Value: b}, {Key: a, Value: large(api.MaxNodes)}}, api.ErrMany},
			{[]graph.Pair{{Key: a, Value: deep(32)}, {Key: a, Value: b}}, api.ErrTwice},
			{[]graph.Pair{{Key: a, Value: deep(32)}, {Key: b, Value: b}}, api.ErrDeep},
			{[]graph.Pair{{Key: a, Value: deep(31)}, {Key: b, Value: b}}, api.OK},
		} {
			g, e := graph.Map(ordered, c.pairs...)
			want := result{e: c.e}
			if c.e == api.OK {
				want = referenceMap(ordered, c.pairs)
			}
			wantResult(t, "Map", g, e, want)
		}
	}
}

// TestErrorOfALaterEntry pins the reading that each condition is checked for all entries before the next one.
func TestErrorOfALaterEntry(t *testing.T) { // P10.2
	g, e := graph.Map(false, graph.Pair{Key: shared(), Value: one()}, graph.Pair{Key: textOf("a"), Value: notValid()})
	wantGraph(t, "Map", g, e, api.Graph{}, api.ErrForm)
}

func TestMapWithEqualKeys(t *testing.T) { // P10.2: the document's example, and the same entries as ordered maps
	two := func(ordered bool, first, second string) api.Graph {
		values := map[string]api.Graph{"a": one(), "b": rooted(scalar(api.Int, "2"))}
		return must(t)(graph.Map(ordered, graph.Pair{Key: textOf(first), Value: values[first]}, graph.Pair{Key: textOf(second), Value: values[second]}))
	}
	for _, ordered := range []bool{false, true} {
		g, e := graph.Map(ordered, graph.Pair{Key: two(false, "a", "b"), Value: one()}, graph.Pair{Key: two(false, "b", "a"), Value: one()})
		wantGraph(t, "equal unordered keys", g, e, api.Graph{}, api.ErrTwice)
		for _, keys := range [][2]api.Graph{{two(true, "a", "b"), two(true, "b", "a")}, {two(true, "a", "b"), two(false, "a", "b")}} {
			pairs := []graph.Pair{{Key: keys[0], Value: one()}, {Key: keys[1], Value: one()}}
			g, e = graph.Map(ordered, pairs...)
			wantResult(t, "different keys", g, e, referenceMap(ordered, pairs))
			if e != api.OK {
				t.Errorf("different keys: error %d", e)
			}
		}
	}
}

func TestTag(t *testing.T) { // P10.2; TestTagNames has the names
	g, e := graph.Tag("t:1", rootLast())
	wantGraph(t, "Tag", g, e, rooted(tag("t:1", 2), text("x"), list(1)), api.OK)
	g, e = graph.Tag("t", loop())
	wantGraph(t, "Tag of a cycle", g, e, rooted(tag("t", 1), list(1)), api.OK)
	for _, c := range []struct {
		name string
		g    api.Graph
		e    api.Errno
	}{
		{"", notValid(), api.ErrArg}, {"a b", notValid(), api.ErrArg}, {"a b", large(api.MaxNodes), api.ErrArg},
		{"a", notValid(), api.ErrForm}, {"a", api.Graph{}, api.ErrForm}, {"a", deep(33), api.ErrForm},
		{"a", deep(32), api.ErrDeep}, {"a", large(api.MaxNodes), api.ErrMany},
	} {
		g, e := graph.Tag(c.name, c.g)
		wantGraph(t, "Tag of "+c.name, g, e, api.Graph{}, c.e)
	}
}

func TestSub(t *testing.T) { // P10.3
	g := rooted(list(4, 1), entries(3, 2), list(1, 5), text("k"), text("first"), tag("t", 2))
	for node, want := range []api.Graph{
		g,
		{Nodes: []api.Node{entries(2, 1), list(0, 3), text("k"), tag("t", 1)}, Root: 0},
		{Nodes: []api.Node{entries(2, 1), list(0, 3), text("k"), tag("t", 1)}, Root: 1},
		textOf("k"),
		textOf("first"),
		{Nodes: []api.Node{entries(2, 1), list(0, 3), text("k"), tag("t", 1)}, Root: 3},
	} {
		got, e := graph.Sub(g, node)
		wantGraph(t, fmt.Sprint("Sub of node ", node), got, e, want, api.OK)
	}
	for _, node := range []int{-1, 6, 7, math.MaxInt, math.MinInt} {
		got, e := graph.Sub(g, node)
		wantGraph(t, "Sub out of range", got, e, api.Graph{}, api.ErrRange)
		got, e = graph.Sub(notValid(), node)
		wantGraph(t, "Sub of what is not valid", got, e, api.Graph{}, api.ErrForm)
	}
	got, e := graph.Sub(notValid(), 0)
	wantGraph(t, "Sub of what is not valid", got, e, api.Graph{}, api.ErrForm)
	got, e = graph.Sub(rooted(list(1), text("a"), text("b")), 1)
	wantGraph(t, "Sub of what is not reached", got, e, api.Graph{}, api.ErrForm)
}

func TestReplace(t *testing.T) { // P10.3
	g := rooted(list(1, 2, 1), text("a"), entries(3, 1), text("k"))
	for _, c := range []struct {
		what string
		g    api.Graph
		node int
		with api.Graph
		want result
	}{
		{"a shared value", g, 1, rootLast(), result{g: rooted(list(4, 1, 4), entries(2, 4), text("k"), text("x"), list(3))}},
		{"a map", g, 2, one(), result{g: rooted(list(1, 2, 1), text("a"), scalar(api.Int, "1"))}},
		{"a map, by a cycle", g, 2, loop(), result{g: rooted(list(1, 2, 1), text("a"), list(2))}},
		{"a key", g, 3, smallMap(), result{g: rooted(list(1, 2, 1), text("a"), entries(3, 1), entries(4, 5), text("k"), text("v"))}},
		{"the root", g, 0, rootLast(), result{g: rootLast()}},
		{"a value, by a shared one", g, 1, shared(), result{g: rooted(list(3, 1, 3), entries(2, 3), text("k"), list(4, 4), text("s"))}},
		{"a key, by a shared one", g, 3, shared(), result{e: api.ErrKey}},
		{"a key, by a cycle", g, 3, loop(), result{e: api.ErrKey}},
		{"a node in a key, by a shared one", rooted(entries(1, 3), list(2), text("a"), text("v")), 2, shared(), result{e: api.ErrKey}},
		{"a node in a key", rooted(entries(1, 3), list(2), text("a"), text("v")), 2, one(), result{g: rooted(entries(1, 2), list(3), text("v"), scalar(api.Int, "1"))}},
		{"a map with a key in a key", rooted(entries(1, 4), entries(2, 3), text("a"), text("b"), text("v")), 1, one(), result{g: rooted(entries(2, 1), text("v"), scalar(api.Int, "1"))}},
		{"a node of a cycle", rooted(list(1), list(0, 2), text("a")), 1, one(), result{g: rooted(list(1), scalar(api.Int, "1"))}},
		{"the root of a cycle", rooted(list(1), list(0, 2), text("a")), 0, one(), result{g: one()}},
		{"a node that refers to itself", rooted(list(1), list(1)), 1, one(), result{g: rooted(list(1), scalar(api.Int, "1"))}},
		{"a root that stands last", rootLast(), 0, one(), result{g: api.Graph{Nodes: []api.Node{list(1), scalar(api.Int, "1")}}}},
		{"a key, by an equal one", rooted(entries(1, 2, 3, 2), text("a"), text("v"), text("b")), 3, textOf("a"), result{e: api.ErrTwice}},
		{"a key, by itself", rooted(entries(1, 2, 3, 2), text("a"), text("v"), text("b")), 3, textOf("b"), result{g: rooted(entries(1, 2, 3, 2), text("a"), text("v"), text("b"))}},
		{"the end of a chain", deep(32), 32, list1(), result{e: api.ErrDeep}},
		{"the middle of a chain", deep(32), 16, deep(16), result{g: deep(32)}},
		{"the middle of a chain, by a longer one", deep(32), 16, deep(17), result{e: api.ErrDeep}},
		{"invalid values", notValid(), 9, one(), result{e: api.ErrForm}},
		{"by an invalid value", one(), 9, notValid(), result{e: api.ErrForm}},
		{"no node", g, 4, loop(), result{e: api.ErrRange}},
		{"no node", g, -1, loop(), result{e: api.ErrRange}},
		{"no node", g, math.MaxInt, one(), result{e: api.ErrRange}},
		{"no node", g, math.MinInt, one(), result{e: api.ErrRange}},
	} {
		got, e := graph.Replace(c.g, c.node, c.with)
		wantResult(t, "Replace of "+c.what, got, e, c.want)
		wantResult(t, "the reference for "+c.what, got, e, referenceReplace(c.g, c.node, c.with))
	}
}

// list1 returns the list of one value.
func list1() api.Graph { return rooted(list(1), text("a")) }

func TestReplaceWithManyNodes(t *testing.T) { // P10.3: only the nodes that remain are counted
	g := large(api.MaxNodes)
	for _, c := range []struct {
		node int
		with api.Graph
		size int
		e    api.Errno
	}{
		{0, large(api.MaxNodes), api.MaxNodes, api.OK},
		{5, one(), api.MaxNodes, api.OK},
		{5, list1(), 0, api.ErrMany},
		{5, large(api.MaxNodes), 0, api.ErrMany},
		{0, list1(), 2, api.OK},
	} {
		got, e := graph.Replace(g, c.node, c.with)
		if e != c.e || len(got.Nodes) != c.size || e == api.OK && graph.Check(got) != api.OK {
			t.Errorf("Replace of node %d by %d nodes: %d nodes, error %d; want %d, %d", c.node, len(c.with.Nodes), len(got.Nodes), e, c.size, c.e)
		}
	}
}

func TestRandomResults(t *testing.T) { // P10.2, P10.3: against the reference, for random arguments
	random := rand.New(rand.NewSource(17))
	found := map[string]int{}
	count := func(what string, e api.Errno) { found[fmt.Sprint(what, " ", e)]++ }
	for range 5000 {
		a, b, c := randomGraph(random, 6), randomGraph(random, 6), validGraph(random, 8)
		g, e := graph.List(a, b, c)
		wantResult(t, "List", g, e, referenceContainer(api.Node{Kind: api.List}, []api.Graph{a, b, c}))
		count("List", e)
		g, e = graph.Tag("t", a)
		wantResult(t, "Tag", g, e, referenceContainer(api.Node{Kind: api.Tag, Text: "t"}, []api.Graph{a}))
		count("Tag", e)
		pairs := []graph.Pair{{Key: validGraph(random, 3), Value: c}, {Key: validGraph(random, 3), Value: a}}
		ordered := random.Intn(2) == 0
		g, e = graph.Map(ordered, pairs...)
		wantResult(t, "Map", g, e, referenceMap(ordered, pairs))
		count("Map", e)
		for node := -1; node <= len(a.Nodes); node++ {
			g, e = graph.Sub(a, node)
			wantResult(t, "Sub", g, e, referenceSub(a, node))
			count("Sub", e)
			g, e = graph.Replace(a, node, b)
			wantResult(t, "Replace", g, e, referenceReplace(a, node, b))
			count("Replace", e)
		}
		for node := range c.Nodes {
			g, e = graph.Replace(c, node, b)
			wantResult(t, "Replace", g, e, referenceReplace(c, node, b))
			count("Replace", e)
		}
	}
	for _, what := range []string{"List 0", "List 3", "Tag 0", "Tag 3", "Map 0", "Map 3", "Map 16", "Map 8", "Sub 0", "Sub 2", "Sub 3", "Replace 0", "Replace 2", "Replace 3", "Replace 16", "Replace 8"} {
		if found[what] < 5 {
			t.Errorf("only %d results %s", found[what], what)
		}
	}
}

func TestConsequences(t *testing.T) { // P10.4
	random := rand.New(rand.NewSource(18))
	for range 10000 {
		g, with := validGraph(random, 20), validGraph(random, 20)
		got, e := graph.Sub(g, g.Root)
		wantGraph(t, "Sub of the root", got, e, g, api.OK)
		got, e = graph.Replace(g, g.Root, with)
		wantGraph(t, "Replace of the root", got, e, with, api.OK)
		depth, acyclic := graph.Depth(g)
		around, e := graph.List(g)
		if depth == api.MaxDepth {
			wantGraph(t, "List of a deep value", around, e, api.Graph{}, api.ErrDeep)
			continue
		}
		if got, is := graph.Depth(around); e != api.OK || got != depth+1 || is != acyclic {
			t.Fatalf("the depth of the list of %s is %d, %t, error %d; want %d, %t", show(g), got, is, e, depth+1, acyclic)
		}
	}
}

func TestResultsShareNoMemory(t *testing.T) { // DOC.md, Memory
	random := rand.New(rand.NewSource(19))
	for range 2000 {
		a, b := validGraph(random, 10), validGraph(random, 10)
		node := random.Intn(len(a.Nodes))
		arguments := []api.Graph{a, b}
		calls := []func() (api.Graph, api.Errno){
			func() (api.Graph, api.Errno) { return graph.List(arguments[0], arguments[1], arguments[0]) },
			func() (api.Graph, api.Errno) { return graph.Tag("t", arguments[0]) },
			func() (api.Graph, api.Errno) {
				return graph.Map(true, graph.Pair{Key: arguments[0], Value: arguments[1]})
			},
			func() (api.Graph, api.Errno) { return graph.Sub(arguments[0], node) },
			func() (api.Graph, api.Errno) { return graph.Replace(arguments[0], node, arguments[1]) },
			func() (api.Graph, api.Errno) { return graph.Replace(arguments[0], node, arguments[0]) },
		}
		for i, call := range calls {
			arguments[0], arguments[1] = clone(a), clone(b)
			first, e := call()
			second, _ := call()
			if !identical(arguments[0], a) || !identical(arguments[1], b) {
				t.Fatalf("call %d has changed %s or %s", i, show(a), show(b))
			}
			kept := clone(first)
			spoil(arguments[0])
			spoil(arguments[1])
			spoil(second)
			if !identical(first, kept) {
				t.Fatalf("call %d: %s, %d has become %s with another value", i, show(kept), e, show(first))
			}
			apart(t, first)
		}
	}
}

// apart checks that no two slices of a graph share memory.
func apart(t *testing.T, g api.Graph) {
	t.Helper()
	seen := map[*int]bool{}
	for _, n := range g.Nodes {
		for _, references := range [][]int{n.Keys, n.Items} {
			if len(references) == 0 {
				continue
			}
			if seen[&references[0]] {
				t.Fatalf("two nodes of %s share memory", show(g))
			}
			seen[&references[0]] = true
		}
	}
}

func TestVariadicArgumentsStay(t *testing.T) { // DOC.md, Memory: also behind their lengths
	items := []api.Graph{one(), textOf("a"), textOf("b")}
	if _, e := graph.List(items[:2]...); e != api.OK || !identical(items[0], one()) || !identical(items[1], textOf("a")) || !identical(items[2], textOf("b")) {
		t.Error("List has changed its arguments")
	}
	pairs := []graph.Pair{{Key: one(), Value: one()}, {Key: textOf("a"), Value: null()}}
	if _, e := graph.Map(false, pairs[:1]...); e != api.OK || !identical(pairs[0].Key, one()) || !identical(pairs[1].Key, textOf("a")) || !identical(pairs[1].Value, null()) {
		t.Error("Map has changed its arguments")
	}
}
