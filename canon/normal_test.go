package canon_test

import (
	"math/rand"
	"slices"
	"testing"

	"rosetta/api"
	"rosetta/canon"
	"rosetta/graph"
)

// wantNormal checks a normal form by its definition: it has the nodes of the graph, sorted entries, and numbers in the order of the visits.
func wantNormal(t *testing.T, g api.Graph) api.Graph {
	t.Helper()
	before := clone(g)
	n, e := canon.Normal(g)
	if e != api.OK || graph.Check(n) != api.OK || n.Root != 0 || len(n.Nodes) != len(g.Nodes) {
		t.Fatalf("Normal(%s) = %s, %d", show(g), show(n), e)
	}
	if !identical(g, before) {
		t.Fatalf("Normal changes its argument %s", show(before))
	}
	// number holds, for each node of the normal form in order, that of the graph.
	var number []int
	var visit func(node, wanted int)
	visit = func(node, wanted int) {
		if at := slices.Index(number, node); at >= 0 {
			if at != wanted {
				t.Fatalf("Normal(%s) = %s: node %d is %d", show(g), show(n), node, wanted)
			}
			return
		}
		x, y := g.Nodes[node], n.Nodes[wanted]
		if wanted != len(number) || x.Kind != y.Kind || x.Text != y.Text || x.Ordered != y.Ordered || len(x.Keys) != len(y.Keys) || len(x.Items) != len(y.Items) {
			t.Fatalf("Normal(%s) = %s: node %d is %d", show(g), show(n), node, wanted)
		}
		number = append(number, node)
		if x.Kind != api.Map {
			for i, item := range x.Items {
				visit(item, y.Items[i])
			}
			return
		}
		m := &tree{ordered: x.Ordered}
		for _, key := range x.Keys {
			m.keys = append(m.keys, unfold(g, key))
		}
		for i, at := range entryOrder(m) {
			visit(x.Keys[at], y.Keys[i])
			visit(x.Items[at], y.Items[i])
		}
	}
	visit(g.Root, 0)
	if len(number) != len(g.Nodes) {
		t.Fatalf("Normal(%s) = %s: only %d nodes", show(g), show(n), len(number))
	}
	return n
}

func TestNormal(t *testing.T) { // P11.3
	for _, row := range [][2]api.Graph{
		{rooted(text("a")), rooted(text("a"))},
		{rooted(list(0)), rooted(list(0))},
		{{Nodes: []api.Node{integer("2"), integer("1"), list(1, 0)}, Root: 2}, rooted(list(1, 2), integer("1"), integer("2"))},
		// A node before its items, and all that the first item reaches before the second one.
		{rooted(list(2, 1), integer("2"), list(3, 1), integer("3")), rooted(list(1, 3), list(2, 3), integer("3"), integer("2"))},
		{rooted(entries(3, 4, 1, 2), text("b"), integer("2"), text("a"), integer("1")), rooted(entries(1, 2, 3, 4), text("a"), integer("1"), text("b"), integer("2"))},
		{rooted(entries(1, 2, 3, 4), text("b"), integer("2"), text("a"), integer("1")), rooted(entries(1, 2, 3, 4), text("a"), integer("1"), text("b"), integer("2"))},
		{rooted(inOrder(entries(4, 3, 2, 1)), integer("1"), text("a"), integer("2"), text("b")), rooted(inOrder(entries(1, 2, 3, 4)), text("b"), integer("2"), text("a"), integer("1"))},
		// A cycle through an unordered map whose second entry is visited first.
		{{Nodes: []api.Node{text("b"), tag("t", 2), entries(0, 1, 3, 2), text("a")}, Root: 1}, rooted(tag("t", 1), entries(2, 1, 3, 0), text("a"), text("b"))},
		{rooted(list(1, 1, 0), list(0, 1)), rooted(list(1, 1, 0), list(0, 1))},
	} {
		n := wantNormal(t, row[0])
		if !identical(n, row[1]) {
			t.Errorf("Normal(%s) = %s; want %s", show(row[0]), show(n), show(row[1]))
		}
		if !canon.Same(row[0], row[1]) {
			t.Errorf("%s and its normal form are not the same", show(row[0]))
		}
	}
}

func TestNormalOfRandomGraphs(t *testing.T) { // P11.3
	random := rand.New(rand.NewSource(5))
	different := 0
	for range 6000 {
		g := validGraph(random, 30, true)
		n := wantNormal(t, g)
		again, _ := canon.Normal(n)
		other := shuffled(random, g)
		third := wantNormal(t, other)
		if !identical(again, n) || !identical(third, n) || !canon.Same(g, other) || !canon.Same(n, g) {
			t.Fatalf("%s: %s, %s and %s", show(g), show(n), show(again), show(third))
		}
		stranger := validGraph(random, 3, true)
		s, _ := canon.Normal(stranger)
		if canon.Same(g, stranger) != identical(s, n) {
			t.Fatalf("Same(%s, %s) is %t", show(g), show(stranger), canon.Same(g, stranger))
		}
		if !canon.Same(g, stranger) {
			different++
		}
		// The result has memory of its own.
		for i, x := range n.Nodes {
			if cap(x.Keys) > 0 && len(x.Keys) > 0 {
				n.Nodes[i].Keys[0] = -1
			}
		}
		spoil(n)
		if !identical(wantNormal(t, g), again) {
			t.Fatalf("the normal form of %s shares memory", show(g))
		}
	}
	if different < 1000 {
		t.Errorf("only %d pairs were different", different)
	}
}

func TestSameInDetail(t *testing.T) { // P11.3: each field, and the sharing
	base := rooted(list(1, 2, 3), tag("t", 4), entries(5, 6), text("a"), list(), integer("1"), text("b"))
	variants := []api.Graph{
		base,
		rooted(list(1, 2, 3), tag("u", 4), entries(5, 6), text("a"), list(), integer("1"), text("b")),
		rooted(list(1, 2, 3), tag("t", 4), inOrder(entries(5, 6)), text("a"), list(), integer("1"), text("b")),
		rooted(list(1, 2, 3), tag("t", 4), entries(5, 6), text("b"), list(), integer("1"), text("b")),
		rooted(list(1, 2, 3), tag("t", 4), entries(5, 6), scalar(api.Bytes, "a"), list(), integer("1"), text("b")),
		rooted(list(1, 2, 3), tag("t", 4), entries(5, 3), text("a"), list(), integer("1")),
		rooted(list(1, 2, 3), tag("t", 4), entries(5, 6), text("a"), list(), integer("2"), text("b")),
		rooted(list(1, 2, 3), tag("t", 2), entries(4, 5), text("a"), integer("1"), text("b")),
		rooted(list(1, 2, 2), tag("t", 3), entries(4, 5), list(), integer("1"), text("b")),
		rooted(list(1, 2, 3, 3), tag("t", 4), entries(5, 6), text("a"), list(), integer("1"), text("b")),
		rooted(list(2, 1, 3), tag("t", 4), entries(5, 6), text("a"), list(), integer("1"), text("b")),
		rooted(list(1, 2, 3), tag("t", 4), entries(5, 6), text("a"), list(0), integer("1"), text("b")),
		rooted(list(1, 2, 3), tag("t", 4), entries(5, 6), text("a"), list(4), integer("1"), text("b")),
		rooted(text("a")),
		rooted(list(1, 1), integer("1")),
		rooted(list(1, 2), integer("1"), integer("1")),
	}
	random := rand.New(rand.NewSource(6))
	for i, a := range variants {
		for j, b := range variants {
			if canon.Same(a, shuffled(random, b)) != (i == j) {
				t.Errorf("Same(%s, %s) is %t", show(a), show(b), i != j)
			}
		}
	}
}

func TestInvalidGraphsHaveNoNormalForm(t *testing.T) { // P11.3
	good := rooted(text("a"))
	for _, g := range invalidGraphs() {
		if n, e := canon.Normal(g); e != api.ErrForm || !identical(n, api.Graph{}) {
			t.Errorf("Normal(%s) = %s, %d", show(g), show(n), e)
		}
		if canon.Same(g, g) || canon.Same(g, good) || canon.Same(good, g) {
			t.Errorf("%s is the same as something", show(g))
		}
	}
	if !canon.Same(good, good) {
		t.Errorf("a value is not the same as itself")
	}
}

// smallGraphs returns all valid graphs of up to three nodes of some kinds, with the root 0.
func smallGraphs() []api.Graph {
	var all []api.Graph
	for size := 1; size <= 3; size++ {
		choices := []api.Node{integer("1"), integer("2"), list()}
		for i := range size {
			choices = append(choices, list(i), tag("t", i))
			for j := range size {
				choices = append(choices, list(i, j), entries(i, j), inOrder(entries(i, j)))
				for k := range size {
					choices = append(choices, entries(i, k, j, k), inOrder(entries(i, k, j, k)))
				}
			}
		}
		nodes := make([]api.Node, size)
		var choose func(at int)
		choose = func(at int) {
			if at < size {
				for _, n := range choices {
					nodes[at] = n
					choose(at + 1)
				}
				return
			}
			if g := (api.Graph{Nodes: nodes}); graph.Check(g) == api.OK {
				all = append(all, clone(g))
			}
		}
		choose(0)
	}
	return all
}

// leastForm returns the least text of all graphs that have other numbers for the nodes after the root, or other orders of the entries of unordered maps.
func leastForm(g api.Graph) string {
	permutations := [][]int{{0, 1, 2}, {0, 2, 1}}
	least := ""
	for _, order := range permutations {
		for _, exchange := range []bool{false, true} {
			h := api.Graph{Nodes: make([]api.Node, len(g.Nodes))}
			if len(g.Nodes) < 3 {
				order = []int{0, 1}
			}
			for i, n := range clone(g).Nodes {
				for _, references := range [][]int{n.Keys, n.Items} {
					for j, r := range references {
						references[j] = order[r]
					}
					if exchange && n.Kind == api.Map && !n.Ordered {
						slices.Reverse(references)
					}
				}
				h.Nodes[order[i]] = n
			}
			if s := show(h); least == "" || s < least {
				least = s
			}
		}
	}
	return least
}

func TestAllSmallGraphs(t *testing.T) { // P11.3: the normal forms are equal if and only if some renumbering is
	forms := map[string]string{}
	leasts := map[string]string{}
	graphs := smallGraphs()
	for _, g := range graphs {
		form, least := show(wantNormal(t, g)), leastForm(g)
		if known, ok := leasts[form]; ok && known != least {
			t.Fatalf("%s and %s have the same normal form", known, least)
		}
		if known, ok := forms[least]; ok && known != form {
			t.Fatalf("%s has the normal forms %s and %s", least, known, form)
		}
		leasts[form], forms[least] = least, form
	}
	if len(graphs) < 1000 || len(forms) > len(graphs)*3/4 {
		t.Errorf("%d graphs have %d forms", len(graphs), len(forms))
	}
}
