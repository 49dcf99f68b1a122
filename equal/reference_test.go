package equal_test

import (
	"fmt"
	"math/rand"
	"slices"
	"strings"
	"testing"

	"rosetta/api"
	"rosetta/canon"
	"rosetta/graph"
)

// The reference follows the definitions of the document on the nodes as they are numbered.

// subgraph returns the value of a node.
func subgraph(g api.Graph, node int) api.Graph {
	s, e := graph.Sub(g, node)
	if e != api.OK {
		panic(e)
	}
	return s
}

// keyOf returns the key text of a key.
func keyOf(g api.Graph, node int) string {
	s, e := canon.Key(subgraph(g, node))
	if e != api.OK {
		panic(e)
	}
	return s
}

// child is a child of a node and the step to it.
type child struct {
	step api.Step
	node int
}

// children returns the children of a node in the order of the search.
func children(g api.Graph, node int) []child {
	n := g.Nodes[node]
	var all []child
	var keys []api.Graph
	for i, item := range n.Items {
		if n.Kind != api.Map {
			all = append(all, child{api.Step{Index: i}, item})
			continue
		}
		key := subgraph(g, n.Keys[i])
		at := len(all)
		for !n.Ordered && at > 0 {
			if order, _ := canon.Compare(key, keys[at-1]); order > 0 {
				break
			}
			at--
		}
		keys = slices.Insert(keys, at, key)
		all = slices.Insert(all, at, child{api.Step{Key: keyOf(g, n.Keys[i])}, item})
	}
	return all
}

// referenceValue is a graph and the children of its nodes.
type referenceValue struct {
	g        api.Graph
	children [][]child
}

func newReference(g api.Graph) referenceValue {
	v := referenceValue{g: g, children: make([][]child, len(g.Nodes))}
	for i := range g.Nodes {
		v.children[i] = children(g, i)
	}
	return v
}

// matches reports whether two nodes match.
func matches(a, b referenceValue, i, j int) bool {
	x, y := a.g.Nodes[i], b.g.Nodes[j]
	if x.Kind != y.Kind || x.Text != y.Text || x.Ordered != y.Ordered {
		return false
	}
	return slices.EqualFunc(a.children[i], b.children[j], func(p, q child) bool { return p.step == q.step })
}

// bisimilar reports whether the roots are in the greatest relation whose pairs match and whose corresponding children are in it.
func bisimilar(a, b referenceValue) bool {
	related := make([][]bool, len(a.g.Nodes))
	for i := range related {
		related[i] = make([]bool, len(b.g.Nodes))
		for j := range related[i] {
			related[i][j] = matches(a, b, i, j)
		}
	}
	for changed := true; changed; {
		changed = false
		for i := range related {
			for j := range related[i] {
				for k := range a.children[i] {
					if related[i][j] && !related[a.children[i][k].node][b.children[j][k].node] {
						related[i][j], changed = false, true
					}
				}
			}
		}
	}
	return related[a.g.Root][b.g.Root]
}

// referenceFirst is the search, with a stack of the pairs that are still to be visited.
func referenceFirst(a, b referenceValue) (api.Path, bool) {
	type visit struct {
		i, j int
		path api.Path
	}
	visited := map[[2]int]bool{}
	stack := []visit{{a.g.Root, b.g.Root, nil}}
	for len(stack) > 0 {
		v := stack[len(stack)-1]
		stack = stack[:len(stack)-1]
		if visited[[2]int{v.i, v.j}] {
			continue
		}
		visited[[2]int{v.i, v.j}] = true
		if !matches(a, b, v.i, v.j) {
			return v.path, true
		}
		for k := len(a.children[v.i]) - 1; k >= 0; k-- {
			c := a.children[v.i][k]
			path := append(slices.Clone(v.path), c.step)
			stack = append(stack, visit{c.node, b.children[v.j][k].node, path})
		}
	}
	return nil, false
}

// show writes a graph in full.
func show(g api.Graph) string {
	var text strings.Builder
	fmt.Fprintf(&text, "root %d:", g.Root)
	for i, n := range g.Nodes {
		if i == 40 {
			fmt.Fprintf(&text, " .. (%d nodes)", len(g.Nodes))
			break
		}
		fmt.Fprintf(&text, " %d(%d %.20q", i, n.Kind, n.Text)
		if n.Ordered {
			text.WriteString(" ordered")
		}
		fmt.Fprintf(&text, " %v %v)", n.Keys, n.Items)
	}
	return text.String()
}

// identical reports whether two graphs have the same fields; nil and empty slices are the same.
func identical(a, b api.Graph) bool {
	return a.Root == b.Root && slices.EqualFunc(a.Nodes, b.Nodes, func(x, y api.Node) bool {
		return x.Kind == y.Kind && x.Text == y.Text && x.Ordered == y.Ordered && slices.Equal(x.Keys, y.Keys) && slices.Equal(x.Items, y.Items)
	})
}

// clone returns a copy of a graph.
func clone(g api.Graph) api.Graph {
	c := api.Graph{Root: g.Root}
	for _, n := range g.Nodes {
		n.Keys, n.Items = slices.Clone(n.Keys), slices.Clone(n.Items)
		c.Nodes = append(c.Nodes, n)
	}
	return c
}

// parsed returns the tree with a key text.
func parsed(t *testing.T, s string) api.Graph {
	t.Helper()
	g, e := canon.ParseKey(s)
	if e != api.OK {
		t.Fatalf("ParseKey(%.100q): error %d", s, e)
	}
	return g
}

// The nodes of which the tests' graphs consist.

func text(s string) api.Node          { return api.Node{Kind: api.Text, Text: s} }
func integer(s string) api.Node       { return api.Node{Kind: api.Int, Text: s} }
func list(items ...int) api.Node      { return api.Node{Kind: api.List, Items: items} }
func tag(name string, i int) api.Node { return api.Node{Kind: api.Tag, Text: name, Items: []int{i}} }

// entries returns an unordered map; keys and values alternate.
func entries(references ...int) api.Node {
	n := api.Node{Kind: api.Map}
	for i := 0; i < len(references); i += 2 {
		n.Keys = append(n.Keys, references[i])
		n.Items = append(n.Items, references[i+1])
	}
	return n
}

// inOrder returns the ordered map.
func inOrder(n api.Node) api.Node {
	n.Ordered = true
	return n
}

// rooted returns the graph with the root 0.
func rooted(nodes ...api.Node) api.Graph { return api.Graph{Nodes: nodes} }

// grower builds random graphs.
type grower struct {
	random *rand.Rand
	size   int
	nodes  []api.Node
	// values are the nodes that do not belong to keys.
	values []int
}

// validGraph returns a random valid graph of about size nodes, of few kinds, often with shared nodes and cycles.
func validGraph(random *rand.Rand, size int) api.Graph {
	for {
		g := grower{random: random, size: 1 + random.Intn(size)}
		g.grow()
		if v := shuffled(random, api.Graph{Nodes: g.nodes}); graph.Check(v) == api.OK {
			return v
		}
	}
}

// grow adds a node and those that it reaches, and returns its index.
func (g *grower) grow() int {
	if len(g.values) > 0 && g.random.Intn(3) == 0 {
		return g.values[g.random.Intn(len(g.values))]
	}
	at := len(g.nodes)
	g.nodes = append(g.nodes, api.Node{})
	g.values = append(g.values, at)
	n := []api.Node{integer("1"), integer("2"), text("1"), list()}[g.random.Intn(4)]
	if len(g.nodes) < g.size {
		n = g.container()
	}
	g.nodes[at] = n
	return at
}

// container returns a list, a map or a tag.
func (g *grower) container() api.Node {
	switch g.random.Intn(4) {
	case 0:
		return tag([]string{"t", "u"}[g.random.Intn(8)/7], g.grow())
	case 1, 2:
		n := list()
		for range 1 + g.random.Intn(3) {
			n.Items = append(n.Items, g.grow())
		}
		return n
	}
	n := api.Node{Kind: api.Map, Ordered: g.random.Intn(2) == 0}
	for _, key := range g.random.Perm(3)[:1+g.random.Intn(3)] {
		n.Keys = append(n.Keys, len(g.nodes))
		g.nodes = append(g.nodes, [3]api.Node{integer("10"), integer("9"), text("a")}[key])
		n.Items = append(n.Items, g.grow())
	}
	return n
}

// shuffled returns the graph with its nodes in another order, and the entries of unordered maps too.
func shuffled(random *rand.Rand, g api.Graph) api.Graph {
	order := random.Perm(len(g.Nodes))
	s := api.Graph{Nodes: make([]api.Node, len(g.Nodes)), Root: order[g.Root]}
	for i, n := range clone(g).Nodes {
		for _, references := range [][]int{n.Keys, n.Items} {
			for j, r := range references {
				references[j] = order[r]
			}
		}
		if n.Kind == api.Map && !n.Ordered {
			random.Shuffle(len(n.Keys), func(a, b int) {
				n.Keys[a], n.Keys[b] = n.Keys[b], n.Keys[a]
				n.Items[a], n.Items[b] = n.Items[b], n.Items[a]
			})
		}
		s.Nodes[order[i]] = n
	}
	return s
}

// unrolled returns an equal graph: every node that is no key is there twice, and each reference to it leads to one of the two.
func unrolled(random *rand.Rand, g api.Graph) api.Graph {
	size := len(g.Nodes)
	c := api.Graph{Root: g.Root, Nodes: append(clone(g).Nodes, clone(g).Nodes...)}
	for i, n := range c.Nodes {
		for j := range n.Items {
			n.Items[j] += random.Intn(2) * size
		}
		for j := range n.Keys {
			n.Keys[j] += i / size * size
		}
	}
	return pruned(c)
}

// pruned returns the graph without the nodes that the root does not reach.
func pruned(g api.Graph) api.Graph {
	number := map[int]int{}
	var p api.Graph
	var visit func(node int)
	visit = func(node int) {
		if _, ok := number[node]; ok {
			return
		}
		number[node] = len(p.Nodes)
		p.Nodes = append(p.Nodes, g.Nodes[node])
		for _, r := range slices.Concat(g.Nodes[node].Keys, g.Nodes[node].Items) {
			visit(r)
		}
	}
	visit(g.Root)
	for _, n := range p.Nodes {
		for _, references := range [][]int{n.Keys, n.Items} {
			for j, r := range references {
				references[j] = number[r]
			}
		}
	}
	return p
}
