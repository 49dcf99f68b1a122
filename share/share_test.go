package share_test

import (
	"math/big"
	"math/rand"
	"slices"
	"strconv"
	"strings"
	"testing"

	"rosetta/api"
	"rosetta/canon"
	"rosetta/equal"
	"rosetta/graph"
	"rosetta/share"
)

// wantMarks checks the results of Labels, Tree and Cyclic.
func wantMarks(t *testing.T, g api.Graph, labels, cycle []int) {
	t.Helper()
	if got := share.Labels(g); !slices.Equal(got, labels) {
		t.Fatalf("Labels(%s) = %v; want %v", show(g), got, labels)
	}
	if share.Tree(g) != (len(labels) == 0) {
		t.Fatalf("Tree(%s) = %t", show(g), share.Tree(g))
	}
	if got, is := share.Cyclic(g); !slices.Equal(got, cycle) || is != (len(cycle) > 0) {
		t.Fatalf("Cyclic(%s) = %v, %t; want %v", show(g), got, is, cycle)
	}
}

// wantNormal checks that a graph is in normal form.
func wantNormal(t *testing.T, g api.Graph) {
	t.Helper()
	if n, e := canon.Normal(g); e != api.OK || !identical(n, g) {
		t.Fatalf("%s is not in normal form", show(g))
	}
}

// wantUnfolding checks the results of Unfold by the definition: the unfolding is an equal tree with a node for each reference.
func wantUnfolding(t *testing.T, g api.Graph) api.Graph {
	t.Helper()
	u, e := share.Unfold(g, api.MaxNodes)
	size := treeSize(g, g.Root, map[int]*big.Int{})
	if size.Cmp(big.NewInt(api.MaxNodes)) > 0 {
		for _, most := range []int{0, api.MaxNodes, api.MaxNodes + 1, 2 * api.MaxNodes, 1 << 62} {
			wantNoUnfolding(t, g, most, api.ErrMany)
		}
		return u
	}
	if e != api.OK || len(u.Nodes) != int(size.Int64()) || !equal.Equal(u, g) {
		t.Fatalf("Unfold(%s) = %s, %d", show(g), show(u), e)
	}
	wantNormal(t, u)
	order, _ := traverse(u)
	if len(labelsIn(u, order)) > 0 {
		t.Fatalf("Unfold(%s) = %s: not a tree", show(g), show(u))
	}
	for _, most := range []int{len(u.Nodes), len(u.Nodes) + 1, 2 * api.MaxNodes, 1 << 62} {
		if again, e := share.Unfold(g, most); e != api.OK || !identical(again, u) {
			t.Fatalf("Unfold(%s, %d) = %s, %d", show(g), most, show(again), e)
		}
	}
	for _, most := range []int{len(u.Nodes) - 1, 1, 0, -1, -1 << 62} {
		if most < len(u.Nodes) {
			wantNoUnfolding(t, g, most, api.ErrMany)
		}
	}
	return u
}

func wantNoUnfolding(t *testing.T, g api.Graph, most int, want api.Errno) {
	t.Helper()
	if u, e := share.Unfold(g, most); e != want || !identical(u, api.Graph{}) {
		t.Fatalf("Unfold(%s, %d) = %s, %d; want the error %d", show(g), most, show(u), e, want)
	}
}

// wantFolding checks the result of Fold by the definition: it is equal, and no two of its nodes that do not belong to keys are.
func wantFolding(t *testing.T, g api.Graph) api.Graph {
	t.Helper()
	f, e := share.Fold(g)
	if e != api.OK || !equal.Equal(f, g) {
		t.Fatalf("Fold(%s) = %s, %d", show(g), show(f), e)
	}
	wantNormal(t, f)
	order, _ := traverse(f)
	relation := related(f)
	for _, i := range order {
		for _, j := range order {
			if i != j && relation[i][j] {
				t.Fatalf("Fold(%s) = %s: nodes %d and %d are equal", show(g), show(f), i, j)
			}
		}
	}
	return f
}

// wantReference checks all functions against the reference.
func wantReference(t *testing.T, g api.Graph) (folding, unfolding api.Graph) {
	t.Helper()
	before := clone(g)
	order, cycle := traverse(g)
	wantMarks(t, g, labelsIn(g, order), cycle)
	folding = wantFolding(t, g)
	if cycle == nil {
		unfolding = wantUnfolding(t, g)
	} else {
		wantNoUnfolding(t, g, api.MaxNodes, api.ErrCycle)
		wantNoUnfolding(t, g, 0, api.ErrCycle)
	}
	if !identical(g, before) {
		t.Fatalf("%s has been changed", show(before))
	}
	return folding, unfolding
}

func TestExamples(t *testing.T) { // P13.1 to P13.4
	seven := integer("7")
	g, tree := rooted(list(1, 1), seven), rooted(list(1, 2), seven, seven)
	wantMarks(t, g, []int{1}, nil)
	wantMarks(t, tree, nil, nil)
	if u, e := share.Unfold(g, 3); e != api.OK || !identical(u, tree) {
		t.Errorf("Unfold = %s, %d", show(u), e)
	}
	wantNoUnfolding(t, g, 2, api.ErrMany)
	if f, e := share.Fold(tree); e != api.OK || !identical(f, g) {
		t.Errorf("Fold = %s, %d", show(f), e)
	}
	c := rooted(list(1), list(0))
	wantMarks(t, c, []int{0}, []int{0, 1})
	if f, e := share.Fold(c); e != api.OK || !identical(f, rooted(list(0))) {
		t.Errorf("Fold of a cycle = %s, %d", show(f), e)
	}
	wantNoUnfolding(t, c, 100, api.ErrCycle)
}

func TestLabelsAndCycles(t *testing.T) { // P13.1, P13.2
	one, a, b := integer("1"), text("a"), text("b")
	for _, row := range []struct {
		g             api.Graph
		labels, cycle []int
	}{
		{rooted(one), nil, nil},
		{rooted(list()), nil, nil},
		{rooted(list(0)), []int{0}, []int{0}},
		{rooted(tag("t", 0)), []int{0}, []int{0}},
		{rooted(entries(1, 0), one), []int{0}, []int{0}},
		{api.Graph{Nodes: []api.Node{one, list(0, 0)}, Root: 1}, []int{0}, nil},
		// The nodes of keys have no labels, nor does a map with many entries.
		{rooted(entries(1, 4, 5, 6), list(2, 3), one, one, one, list(), one), nil, nil},
		{rooted(entries(1, 2, 3, 2), a, one, b), []int{2}, nil},
		// A cycle that does not contain the root, and the path to it.
		{rooted(list(1), list(2), list(1)), []int{1}, []int{1, 2}},
		{rooted(list(1), tag("t", 2), list(3), list(2)), []int{2}, []int{2, 3}},
		// A node that is reached again after it has been finished is no cycle.
		{rooted(list(1, 2), list(3), list(3, 1), one), []int{1, 3}, nil},
		{rooted(list(1, 1, 2), one, list(0)), []int{0, 1}, []int{0, 2}},
		// The first of several cycles in the order of the references, though a later one is shorter or begins nearer to the root.
		{rooted(list(1, 0), list(2), list(1, 0)), []int{0, 1}, []int{1, 2}},
		{rooted(list(1, 0), list(2), list(0, 1)), []int{0, 1}, []int{0, 1, 2}},
		{rooted(list(2, 1), list(1), list(3, 2), list(2, 3)), []int{2, 3, 1}, []int{2, 3}},
		{rooted(list(2, 1), list(0), list(3), one), []int{0}, []int{0, 1}},
		// The normal order is depth first: 2 is reached first below 3.
		{rooted(list(3, 2, 2, 3), one, list(1), list(2, 1)), []int{3, 2, 1}, nil},
		// The entries of an unordered map are visited in the order of their keys, 9 before 10 and "a" before "b".
		{rooted(entries(1, 2, 3, 4), b, list(2), a, list(4)), []int{4, 2}, []int{4}},
		{rooted(inOrder(entries(1, 2, 3, 4)), b, list(2), a, list(4)), []int{2, 4}, []int{2}},
		{rooted(entries(1, 2, 3, 4), integer("10"), list(0, 2), integer("9"), list(0, 4)), []int{0, 4, 2}, []int{0, 4}},
		{rooted(list(1, 2, 3), entries(4, 2, 5, 3), one, one, b, a), []int{3, 2}, nil},
	} {
		wantMarks(t, row.g, row.labels, row.cycle)
		wantReference(t, row.g)
	}
}

func TestFold(t *testing.T) { // P13.4
	one, two, a := integer("1"), integer("2"), text("a")
	for _, row := range [][2]api.Graph{
		{rooted(one), rooted(one)},
		{api.Graph{Nodes: []api.Node{one, list(0)}, Root: 1}, rooted(list(1), one)},
		{rooted(list(1, 2, 3), list(), list(), list()), rooted(list(1, 1, 1), list())},
		{rooted(list(1, 2), list(3), list(4), one, one), rooted(list(1, 1), list(2), one)},
		{rooted(list(1, 2), list(3), list(4), one, two), rooted(list(1, 3), list(2), one, list(4), two)},
		// What differs in one field only stays apart.
		{rooted(list(1, 2, 3, 4), list(), entries(), inOrder(entries()), one), rooted(list(1, 2, 3, 4), list(), entries(), inOrder(entries()), one)},
		{rooted(list(1, 2, 3), text("1"), one, api.Node{Kind: api.Dec, Text: "1e0"}), rooted(list(1, 2, 3), text("1"), one, api.Node{Kind: api.Dec, Text: "1e0"})},
		{rooted(list(1, 2), api.Node{Kind: api.Float, Text: "0p0"}, api.Node{Kind: api.Float, Text: "-0p0"}), rooted(list(1, 2), api.Node{Kind: api.Float, Text: "0p0"}, api.Node{Kind: api.Float, Text: "-0p0"})},
		{rooted(list(1, 2, 3), tag("t", 4), tag("u", 4), list(4), one), rooted(list(1, 3, 4), tag("t", 2), one, tag("u", 2), list(2))},
		{rooted(list(1, 2), list(3), list(3, 3), one), rooted(list(1, 3), list(2), one, list(2, 2))},
		// Keys are not shared: neither with other keys, nor with values, nor with one another.
		{rooted(entries(1, 2), one, one), rooted(entries(1, 2), one, one)},
		{rooted(entries(1, 5), list(2, 3, 4), one, one, list(), one), rooted(entries(1, 5), list(2, 3, 4), one, one, list(), one)},
		{rooted(list(1, 2), entries(3, 4), entries(5, 6), a, one, a, one), rooted(list(1, 1), entries(2, 3), a, one)},
		{rooted(list(1, 2), entries(3, 4), entries(5, 6), a, one, a, two), rooted(list(1, 4), entries(2, 3), a, one, entries(5, 6), a, two)},
		{rooted(list(1, 2), entries(3, 4), entries(5, 6), a, one, text("b"), one), rooted(list(1, 4), entries(2, 3), a, one, entries(5, 3), text("b"))},
		// The order of entries matters in ordered maps only.
		{
			rooted(list(1, 2), entries(3, 7, 4, 7), entries(5, 7, 6, 7), a, one, one, a, two),
			rooted(list(1, 1), entries(2, 3, 4, 3), one, two, a),
		},
		{
			rooted(list(1, 2), inOrder(entries(3, 7, 4, 7)), inOrder(entries(5, 7, 6, 7)), a, one, one, a, two),
			rooted(list(1, 5), inOrder(entries(2, 3, 4, 3)), a, two, one, inOrder(entries(6, 3, 7, 3)), one, a),
		},
		// Cycles.
		{rooted(list(1), list(2), list(0)), rooted(list(0))},
		{rooted(list(1), list(1)), rooted(list(0))},
		{rooted(list(1), tag("t", 2), list(1)), rooted(list(1), tag("t", 0))},
		{rooted(list(1, 3), list(2, 3), list(0, 4), one, one), rooted(list(0, 1), one)},
		{rooted(list(1, 3), list(2, 3), list(0, 4), one, two), rooted(list(1, 4), list(2, 4), list(0, 3), two, one)},
		{rooted(entries(1, 2), one, entries(3, 0), one), rooted(entries(1, 0), one)},
		{rooted(list(1, 2), list(1), list(3), list(2)), rooted(list(1, 1), list(1))},
	} {
		if f := wantFolding(t, row[0]); !identical(f, row[1]) {
			t.Errorf("Fold(%s) = %s; want %s", show(row[0]), show(f), show(row[1]))
		}
		wantReference(t, row[0])
	}
}

func TestUnfold(t *testing.T) { // P13.3
	one, two, a := integer("1"), integer("2"), text("a")
	for _, row := range []struct {
		g    api.Graph
		want string
	}{
		{rooted(one), "1"},
		{api.Graph{Nodes: []api.Node{one, list(0, 0)}, Root: 1}, "[1,1]"},
		{rooted(list(1, 1, 2), list(2, 2), one), "[[1,1],[1,1],1]"},
		{rooted(tag("t", 1), list(2, 2), tag("u", 3), one), "!t([!u(1),!u(1)])"},
		// Each map has keys of its own.
		{rooted(list(1, 1), entries(2, 3), a, one), `[{"a"=1},{"a"=1}]`},
		{rooted(list(1, 1), inOrder(entries(2, 5, 6, 5)), list(3, 4), one, one, two, a), `[<[1,1]=2,"a"=2>,<[1,1]=2,"a"=2>]`},
		{rooted(list(1, 1), entries(2, 3, 4, 3), text("b"), list(), a), `[{"a"=[],"b"=[]},{"a"=[],"b"=[]}]`},
	} {
		u := wantUnfolding(t, row.g)
		if !identical(u, parsed(t, row.want)) {
			t.Errorf("Unfold(%s) = %s; want %s", show(row.g), show(u), row.want)
		}
	}
}

func TestAllSmallGraphs(t *testing.T) { // P13.1 to P13.4
	graphs := smallGraphs()
	for _, g := range graphs {
		wantReference(t, g)
	}
	if len(graphs) < 1000 {
		t.Errorf("only %d graphs", len(graphs))
	}
}

func TestRandomGraphs(t *testing.T) { // P13.1 to P13.5
	random := rand.New(rand.NewSource(1))
	cyclic, shared := 0, 0
	for i := range 3000 {
		g := validGraph(random, 16, i%2 == 0)
		f, u := wantReference(t, g)
		labels := share.Labels(g)
		if share.Tree(g) != (len(labels) == 0) {
			t.Fatalf("%s has the labels %v", show(g), labels)
		}
		if again, _ := share.Fold(f); !identical(again, f) {
			t.Fatalf("Fold(%s) = %s", show(f), show(again))
		}
		others := []api.Graph{shuffled(random, g), shuffled(random, unrolled(random, g))}
		cycle, is := share.Cyclic(g)
		if is {
			cyclic++
		} else {
			others = append(others, u)
			if again, _ := share.Unfold(u, api.MaxNodes); !identical(again, u) {
				t.Fatalf("Unfold(%s) = %s", show(u), show(again))
			}
		}
		if len(labels) > 0 {
			shared++
		}
		for _, other := range others {
			if graph.Check(other) != api.OK {
				continue
			}
			if v, e := share.Fold(other); e != api.OK || !identical(v, f) {
				t.Fatalf("%s and %s have the foldings %s and %s", show(g), show(other), show(f), show(v))
			}
			if v, e := share.Unfold(other, api.MaxNodes); !identical(v, u) || (e == api.ErrCycle) != is {
				t.Fatalf("%s and %s have the unfoldings %s and %s", show(g), show(other), show(u), show(v))
			}
		}
		// The results have memory of their own.
		for _, numbers := range [][]int{labels, cycle} {
			numbers = numbers[:cap(numbers)]
			for j := range numbers {
				numbers[j] = -1
			}
		}
		spoil(f)
		spoil(u)
		wantReference(t, g)
	}
	if cyclic < 500 || shared < 1000 {
		t.Errorf("only %d graphs were cyclic, and %d had shared nodes", cyclic, shared)
	}
}

func TestInvalidGraphs(t *testing.T) { // P13.1 to P13.4
	deep := api.Graph{}
	for i := range api.MaxDepth + 1 {
		deep.Nodes = append(deep.Nodes, list(i+1))
	}
	deep.Nodes = append(deep.Nodes, list())
	for _, bad := range []api.Graph{
		{},
		{Nodes: []api.Node{text("a")}, Root: 1},
		{Nodes: []api.Node{text("a")}, Root: -1},
		rooted(text("\xff")),
		rooted(list(1)),
		rooted(list(-1)),
		rooted(text("a"), text("a")),
		rooted(entries(1, 0, 2, 0), text("a"), text("a")),
		rooted(entries(1, 1), text("a")),
		rooted(list(0), list(0)),
		deep,
		{Nodes: make([]api.Node, api.MaxNodes+1)},
	} {
		wantNoUnfolding(t, bad, 0, api.ErrForm)
		wantNoUnfolding(t, bad, api.MaxNodes, api.ErrForm)
		if f, e := share.Fold(bad); e != api.ErrForm || !identical(f, api.Graph{}) {
			t.Errorf("Fold(%s) = %s, %d", show(bad), show(f), e)
		}
		labels := share.Labels(bad)
		cycle, is := share.Cyclic(bad)
		if len(labels) != 0 || len(cycle) != 0 || is || share.Tree(bad) {
			t.Errorf("%s: %v, %v, %t, %t", show(bad), labels, cycle, is, share.Tree(bad))
		}
	}
}

// tower returns lists in lists, each of which has the next one as an item several times.
func tower(height, times int) api.Graph {
	var g api.Graph
	for i := range height {
		g.Nodes = append(g.Nodes, list(slices.Repeat([]int{i + 1}, times)...))
	}
	g.Nodes = append(g.Nodes, integer("1"))
	return g
}

func TestLimitsOfUnfolding(t *testing.T) { // P13.3: at most MaxNodes nodes, and unfoldings of any size are rejected
	for _, g := range []api.Graph{
		tower(1, api.MaxNodes), tower(11, 2), tower(12, 2), tower(api.MaxDepth, 2), tower(api.MaxDepth, 1000), tower(6, 4), tower(3, 100000), tower(9, 128),
		rooted(list(slices.Repeat([]int{1}, api.MaxNodes-1)...), list()),
		// 1 + 3 * 1365 nodes, with and without one more.
		rooted(list(slices.Repeat([]int{1}, 1365)...), entries(2, 3), text("a"), integer("1")),
		rooted(list(append(slices.Repeat([]int{1}, 1365), 3)...), entries(2, 3), text("a"), integer("1")),
		// A key of many nodes counts as often as its map.
		rooted(list(slices.Repeat([]int{1}, 200)...), entries(2, 21), list(3, 4, 5, 6, 7, 8, 9, 10, 11, 12, 13, 14, 15, 16, 17, 18, 19, 20), list(), list(), list(), list(), list(), list(), list(), list(), list(), list(), list(), list(), list(), list(), list(), list(), list(), list(), integer("1")),
	} {
		order, cycle := traverse(g)
		wantMarks(t, g, labelsIn(g, order), cycle)
		wantUnfolding(t, g)
	}
	whole := rooted(list(slices.Repeat([]int{1}, api.MaxNodes-1)...), list())
	if u, e := share.Unfold(whole, 1<<62); e != api.OK || len(u.Nodes) != api.MaxNodes {
		t.Errorf("Unfold: %d nodes, %d", len(u.Nodes), e)
	}
	// A cycle is reported even if there are too many nodes besides.
	wide := tower(20, 3)
	wide.Nodes = append(wide.Nodes, list(0, len(wide.Nodes)))
	wide.Root = len(wide.Nodes) - 1
	wantNoUnfolding(t, wide, 5, api.ErrCycle)
}

func TestFoldingOfLargeValues(t *testing.T) { // P13.4
	// 2000 numbers in lists, which are all different; the numbers come first, so that they keep the numbers of their classes.
	var different api.Graph
	for i := range 2000 {
		different.Nodes = append(different.Nodes, integer(strconv.Itoa(i)))
	}
	all := list()
	for i := range 2000 {
		all.Items = append(all.Items, len(different.Nodes))
		different.Nodes = append(different.Nodes, list(i))
	}
	different.Root = len(different.Nodes)
	different.Nodes = append(different.Nodes, all)
	normal, _ := canon.Normal(different)
	if f, e := share.Fold(different); e != api.OK || !identical(f, normal) {
		t.Errorf("Fold of different values: %d nodes, %d", len(f.Nodes), e)
	}
	// 4000 equal lists.
	same := rooted(list())
	for range 2000 {
		at := len(same.Nodes)
		same.Nodes = append(same.Nodes, list(at+1), integer("1"))
		same.Nodes[0].Items = append(same.Nodes[0].Items, at)
	}
	want := rooted(list(slices.Repeat([]int{1}, 2000)...), list(2), integer("1"))
	if f, e := share.Fold(same); e != api.OK || !identical(f, want) {
		t.Errorf("Fold of equal values = %s, %d", show(f), e)
	}
}

func TestFoldingOfTowers(t *testing.T) { // P13.4: a difference at the bottom of two towers separates them up to the top
	for bottom, want := range map[string]int{"1": 1 + api.MaxDepth, "2": 1 + 2*api.MaxDepth} {
		g := rooted(list(1, 1+api.MaxDepth))
		for range 2 {
			for range api.MaxDepth - 1 {
				at := len(g.Nodes)
				g.Nodes = append(g.Nodes, list(at+1, at+1))
			}
			g.Nodes = append(g.Nodes, integer("1"))
		}
		g.Nodes[len(g.Nodes)-1].Text = bottom
		if f := wantFolding(t, g); len(f.Nodes) != want {
			t.Errorf("the folding of two towers has %d nodes; want %d", len(f.Nodes), want)
		}
	}
}

func TestRings(t *testing.T) { // P13.2, P13.4: rings of equal nodes, and of nodes of which one is different
	for _, size := range []int{1, 2, 3, 8, 32} {
		for period := 1; period <= size; period++ {
			var g api.Graph
			for i := range size {
				g.Nodes = append(g.Nodes, list((i+1)%size, size+i))
			}
			for i := range size {
				g.Nodes = append(g.Nodes, integer(strconv.Itoa(i%period)))
			}
			f := wantFolding(t, g)
			least := size
			for length := size; length > 0; length-- {
				repeats := size%length == 0
				for i := range size {
					repeats = repeats && i%period == (i+length)%size%period
				}
				if repeats {
					least = length
				}
			}
			if lists := len(f.Nodes) - min(period, size); lists != least {
				t.Errorf("a ring of %d lists with the period %d is folded to %d lists", size, period, lists)
			}
			cycle, _ := share.Cyclic(g)
			for i, node := range cycle {
				if i != node || len(cycle) != size {
					t.Errorf("Cyclic of a ring of %d: %v", size, cycle)
				}
			}
		}
	}
}

func TestLongKeys(t *testing.T) { // P13.3, P13.4: keys whose key texts have more than MaxSource bytes
	long := strings.Repeat(`"`, api.MaxSource)
	g := rooted(list(1, 2, 3), entries(4, 7), entries(5, 7), entries(6, 7), text(long), text(long), text(long+"a"), integer("1"))
	want := rooted(list(1, 1, 4), entries(2, 3), text(long), integer("1"), entries(5, 3), text(long+"a"))
	if f, e := share.Fold(g); e != api.OK || !identical(f, want) {
		t.Errorf("Fold = %s, %d", show(f), e)
	}
	tree := rooted(list(1, 4, 7), entries(2, 3), text(long), integer("1"), entries(5, 6), text(long), integer("1"), entries(8, 9), text(long+"a"), integer("1"))
	if u, e := share.Unfold(g, 10); e != api.OK || !identical(u, tree) {
		t.Errorf("Unfold = %s, %d", show(u), e)
	}
}
