package diff_test

import (
	"fmt"
	"math/rand"
	"slices"
	"strings"
	"testing"

	"rosetta/api"
	"rosetta/canon"
	"rosetta/graph"
)

// The reference follows the rules of the document on values that are graphs of their own.

// child is an item or an entry of a value.
type child struct {
	key   string
	order api.Graph
	value api.Graph
}

// childrenOf returns the items or entries of the root of a tree, sorted by the keys for an unordered map.
func childrenOf(g api.Graph) []child {
	root := g.Nodes[g.Root]
	var children []child
	for i, item := range root.Items {
		var c child
		c.value = sub(g, item)
		if root.Kind == api.Map {
			c.order = sub(g, root.Keys[i])
			c.key = keyOf(c.order)
		}
		children = append(children, c)
	}
	if root.Kind == api.Map && !root.Ordered {
		slices.SortFunc(children, func(x, y child) int {
			order, e := canon.Compare(x.order, y.order)
			if e != api.OK {
				panic(e)
			}
			return order
		})
	}
	return children
}

// sub returns the value of a node.
func sub(g api.Graph, node int) api.Graph {
	s, e := graph.Sub(g, node)
	if e != api.OK {
		panic(e)
	}
	return s
}

// keyOf returns a key text, which no test lets be too long.
func keyOf(g api.Graph) string {
	s, e := canon.Key(g)
	if e != api.OK {
		panic(e)
	}
	return s
}

// normal returns the normal form.
func normal(g api.Graph) api.Graph {
	n, e := canon.Normal(g)
	if e != api.OK {
		panic(e)
	}
	return n
}

// at returns the path with a further step.
func at(p api.Path, step api.Step) api.Path { return append(slices.Clone(p), step) }

// referenceDiff returns the difference between two trees at a path.
func referenceDiff(a, b api.Graph, p api.Path) []api.Change {
	if canon.Same(a, b) {
		return nil
	}
	x, y := a.Nodes[a.Root], b.Nodes[b.Root]
	switch {
	case x.Kind == api.Map && y.Kind == api.Map && !x.Ordered && !y.Ordered:
		return referenceMaps(childrenOf(a), childrenOf(b), p, false)
	case x.Kind == api.Map && y.Kind == api.Map && x.Ordered && y.Ordered && inSameOrder(childrenOf(a), childrenOf(b)):
		return referenceMaps(childrenOf(a), childrenOf(b), p, true)
	case x.Kind == api.List && y.Kind == api.List:
		return referenceLists(childrenOf(a), childrenOf(b), p)
	case x.Kind == api.Tag && y.Kind == api.Tag && x.Text == y.Text:
		return referenceDiff(childrenOf(a)[0].value, childrenOf(b)[0].value, at(p, api.Step{}))
	}
	return []api.Change{{Op: api.Set, Path: p, Value: normal(b)}}
}

// position returns the position of an entry, or -1.
func position(entries []child, key string) int {
	return slices.IndexFunc(entries, func(c child) bool { return c.key == key })
}

// inSameOrder reports whether any two keys that both maps have are in the same order in both.
func inSameOrder(a, b []child) bool {
	for i, x := range a {
		for _, y := range a[i+1:] {
			first, second := position(b, x.key), position(b, y.key)
			if first >= 0 && second >= 0 && first > second {
				return false
			}
		}
	}
	return true
}

// referenceMaps follows rules 2 and 3, for entries in the order in which they are processed.
func referenceMaps(a, b []child, p api.Path, ordered bool) []api.Change {
	var l []api.Change
	for _, x := range a {
		if position(b, x.key) < 0 {
			l = append(l, api.Change{Op: api.Remove, Path: at(p, api.Step{Key: x.key})})
		}
	}
	for _, x := range a {
		if i := position(b, x.key); i >= 0 {
			l = append(l, referenceDiff(x.value, b[i].value, at(p, api.Step{Key: x.key}))...)
		}
	}
	for i, y := range b {
		if position(a, y.key) < 0 {
			step := api.Step{Key: y.key}
			if ordered {
				step.Index = i
			}
			l = append(l, api.Change{Op: api.Insert, Path: at(p, step), Value: normal(y.value)})
		}
	}
	return l
}

// longest returns a function that returns the length of the longest common subsequence of the items from some positions on.
func longest(a, b []child, same func(i, j int) bool) func(i, j int) int {
	known := map[[2]int]int{}
	var length func(i, j int) int
	length = func(i, j int) int {
		if i == len(a) || j == len(b) {
			return 0
		}
		n, ok := known[[2]int{i, j}]
		if !ok {
			n = max(length(i+1, j), length(i, j+1))
			if same(i, j) {
				n = max(n, 1+length(i+1, j+1))
			}
			known[[2]int{i, j}] = n
		}
		return n
	}
	return length
}

// referencePairs returns the positions of the matched items.
func referencePairs(a, b []child) [][2]int {
	same := func(i, j int) bool { return canon.Same(a[i].value, b[j].value) }
	length := longest(a, b, same)
	var pairs [][2]int
	for i, j := 0, 0; i < len(a) && j < len(b); {
		switch {
		case same(i, j):
			pairs = append(pairs, [2]int{i, j})
			i, j = i+1, j+1
		case length(i+1, j) >= length(i, j+1):
			i++
		default:
			j++
		}
	}
	return pairs
}

// referenceLists follows rule 4. It keeps the list as the changes leave it, with the number of each item in a, or -1 for an inserted one, and finds the indices in it.
func referenceLists(a, b []child, p api.Path) []api.Change {
	var list []int
	for i := range a {
		list = append(list, i)
	}
	var l []api.Change
	pairs := append(referencePairs(a, b), [2]int{len(a), len(b)})
	i, j := 0, 0
	for _, pair := range pairs {
		for ; i < pair[0] && j < pair[1]; i, j = i+1, j+1 {
			l = append(l, referenceDiff(a[i].value, b[j].value, at(p, api.Step{Index: slices.Index(list, i)}))...)
		}
		for ; i < pair[0]; i++ {
			index := slices.Index(list, i)
			list = slices.Delete(list, index, index+1)
			l = append(l, api.Change{Op: api.Remove, Path: at(p, api.Step{Index: index})})
		}
		for ; j < pair[1]; j++ {
			// It stands before the item at which the gap ends.
			index := len(list)
			if i < len(a) {
				index = slices.Index(list, i)
			}
			list = slices.Insert(list, index, -1)
			l = append(l, api.Change{Op: api.Insert, Path: at(p, api.Step{Index: index}), Value: normal(b[j].value)})
		}
		i, j = pair[0]+1, pair[1]+1
	}
	return l
}

// identicalChanges reports whether two lists of changes have the same fields.
func identicalChanges(a, b []api.Change) bool {
	return slices.EqualFunc(a, b, func(x, y api.Change) bool {
		return x.Op == y.Op && slices.Equal(x.Path, y.Path) && identical(x.Value, y.Value)
	})
}

// describe writes changes.
func describe(l []api.Change) string {
	var s strings.Builder
	for _, c := range l {
		fmt.Fprintf(&s, "%s %v", []string{"", "set", "insert", "remove"}[c.Op], c.Path)
		if c.Op != api.Remove {
			s.WriteString(" " + keyOf(c.Value))
		}
		s.WriteString("; ")
	}
	return s.String()
}

// identical reports whether two graphs have the same fields; nil and empty slices are the same.
func identical(a, b api.Graph) bool {
	return a.Root == b.Root && slices.EqualFunc(a.Nodes, b.Nodes, func(x, y api.Node) bool {
		return x.Kind == y.Kind && x.Text == y.Text && x.Ordered == y.Ordered && slices.Equal(x.Keys, y.Keys) && slices.Equal(x.Items, y.Items)
	})
}

// clone returns a copy of a graph.
func clone(g api.Graph) api.Graph {
	c := api.Graph{Root: g.Root}
	for _, n := range g.Nodes {
		n.Keys, n.Items = slices.Clone(n.Keys), slices.Clone(n.Items)
		c.Nodes = append(c.Nodes, n)
	}
	return c
}

// parsed returns the tree with a key text.
func parsed(t *testing.T, s string) api.Graph {
	t.Helper()
	g, e := canon.ParseKey(s)
	if e != api.OK {
		t.Fatalf("ParseKey(%.100q): error %d", s, e)
	}
	return g
}

// The nodes of which the tests' graphs consist.

func text(s string) api.Node     { return api.Node{Kind: api.Text, Text: s} }
func integer(s string) api.Node  { return api.Node{Kind: api.Int, Text: s} }
func list(items ...int) api.Node { return api.Node{Kind: api.List, Items: items} }

// entries returns an unordered map; keys and values alternate.
func entries(references ...int) api.Node {
	n := api.Node{Kind: api.Map}
	for i := 0; i < len(references); i += 2 {
		n.Keys = append(n.Keys, references[i])
		n.Items = append(n.Items, references[i+1])
	}
	return n
}

// rooted returns the graph with the root 0.
func rooted(nodes ...api.Node) api.Graph { return api.Graph{Nodes: nodes} }

// grower builds random trees.
type grower struct {
	random *rand.Rand
	size   int
	nodes  []api.Node
}

// randomTree returns a tree of about size nodes, of few kinds, with its nodes and unordered entries in any order.
func randomTree(random *rand.Rand, size int) api.Graph {
	g := grower{random: random, size: 1 + random.Intn(size)}
	g.grow()
	return shuffled(random, api.Graph{Nodes: g.nodes})
}

// grow adds a node and those that it reaches, and returns its index.
func (g *grower) grow() int {
	at := len(g.nodes)
	g.nodes = append(g.nodes, api.Node{})
	n := []api.Node{integer("1"), integer("2"), text("1"), list(), entries()}[g.random.Intn(5)]
	if len(g.nodes) < g.size {
		n = g.container()
	}
	g.nodes[at] = n
	return at
}

// container returns a list, a map or a tag.
func (g *grower) container() api.Node {
	switch g.random.Intn(6) {
	case 0:
		return api.Node{Kind: api.Tag, Text: []string{"t", "u"}[g.random.Intn(4)/3], Items: []int{g.grow()}}
	case 1, 2, 3:
		n := list()
		for range 1 + g.random.Intn(4) {
			n.Items = append(n.Items, g.grow())
		}
		return n
	}
	n := api.Node{Kind: api.Map, Ordered: g.random.Intn(2) == 0}
	keys := g.random.Perm(4)
	if g.random.Intn(3) > 0 {
		slices.Sort(keys)
	}
	for _, key := range keys[:1+g.random.Intn(4)] {
		n.Keys = append(n.Keys, g.key(key))
		n.Items = append(n.Items, g.grow())
	}
	return n
}

// key adds the nodes of a key of which the parts are equal or in no order, and returns its index.
func (g *grower) key(number int) int {
	at := len(g.nodes)
	g.nodes = append(g.nodes, [4][]api.Node{
		{integer("10")},
		{integer("9")},
		{list(at+1, at+2), integer("1"), integer("1")},
		{entries(at+1, at+2, at+3, at+4), text("b"), list(), text("a"), list()},
	}[number]...)
	return at
}

// shuffled returns the graph with its nodes in another order, and the entries of unordered maps too.
func shuffled(random *rand.Rand, g api.Graph) api.Graph {
	order := random.Perm(len(g.Nodes))
	s := api.Graph{Nodes: make([]api.Node, len(g.Nodes)), Root: order[g.Root]}
	for i, n := range clone(g).Nodes {
		for _, references := range [][]int{n.Keys, n.Items} {
			for j, r := range references {
				references[j] = order[r]
			}
		}
		if n.Kind == api.Map && !n.Ordered {
			random.Shuffle(len(n.Keys), func(a, b int) {
				n.Keys[a], n.Keys[b] = n.Keys[b], n.Keys[a]
				n.Items[a], n.Items[b] = n.Items[b], n.Items[a]
			})
		}
		s.Nodes[order[i]] = n
	}
	return s
}
