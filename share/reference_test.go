package share_test

import (
	"fmt"
	"math/big"
	"math/rand"
	"slices"
	"strings"
	"testing"

	"rosetta/api"
	"rosetta/canon"
	"rosetta/graph"
)

// The reference follows the definitions of the document on the nodes as they are numbered.

// items returns the items of a node in normal order.
func items(g api.Graph, node int) []int {
	n := g.Nodes[node]
	if n.Kind != api.Map || n.Ordered {
		return n.Items
	}
	var keys []api.Graph
	var sorted []int
	for i, item := range n.Items {
		key, e := graph.Sub(g, n.Keys[i])
		if e != api.OK {
			panic(e)
		}
		at := len(keys)
		for at > 0 {
			if order, _ := canon.Compare(key, keys[at-1]); order > 0 {
				break
			}
			at--
		}
		keys = slices.Insert(keys, at, key)
		sorted = slices.Insert(sorted, at, item)
	}
	return sorted
}

// frame is a node on the path of a traversal, and its references that have not been followed yet.
type frame struct {
	node int
	rest []int
}

// traverse follows all references of a value depth first, and returns the nodes in the order of the first visits and the first cycle.
func traverse(g api.Graph) (order, cycle []int) {
	path := []frame{{g.Root, items(g, g.Root)}}
	order = []int{g.Root}
	for len(path) > 0 {
		top := &path[len(path)-1]
		if len(top.rest) == 0 {
			path = path[:len(path)-1]
			continue
		}
		next := top.rest[0]
		top.rest = top.rest[1:]
		at := slices.IndexFunc(path, func(f frame) bool { return f.node == next })
		if at >= 0 && cycle == nil {
			for _, f := range path[at:] {
				cycle = append(cycle, f.node)
			}
		}
		if !slices.Contains(order, next) {
			order = append(order, next)
			path = append(path, frame{next, items(g, next)})
		}
	}
	return order, cycle
}

// labelsIn returns those of some nodes that have more than one reference.
func labelsIn(g api.Graph, order []int) []int {
	var labels []int
	for _, node := range order {
		count := 0
		if node == g.Root {
			count++
		}
		for _, n := range g.Nodes {
			for _, item := range n.Items {
				if item == node {
					count++
				}
			}
		}
		if count > 1 {
			labels = append(labels, node)
		}
	}
	return labels
}

// treeSize returns the number of nodes of the unfolding of a node, which reaches no cycle.
func treeSize(g api.Graph, node int, known map[int]*big.Int) *big.Int {
	if size, ok := known[node]; ok {
		return size
	}
	size := big.NewInt(1)
	for _, part := range slices.Concat(g.Nodes[node].Keys, g.Nodes[node].Items) {
		size.Add(size, treeSize(g, part, known))
	}
	known[node] = size
	return size
}

// keysOf returns the key texts of the keys of a map, sorted for unordered maps.
func keysOf(g api.Graph, node int) []string {
	n := g.Nodes[node]
	var keys []string
	for _, key := range n.Keys {
		sub, _ := graph.Sub(g, key)
		text, e := canon.Key(sub)
		if e != api.OK {
			panic(e)
		}
		keys = append(keys, text)
	}
	if !n.Ordered {
		slices.Sort(keys)
	}
	return keys
}

// related returns the greatest relation of the nodes of a graph whose pairs match and whose corresponding children are related.
func related(g api.Graph) [][]bool {
	relation := make([][]bool, len(g.Nodes))
	keys, children := make([][]string, len(g.Nodes)), make([][]int, len(g.Nodes))
	for i := range g.Nodes {
		keys[i], children[i] = keysOf(g, i), items(g, i)
	}
	for i, x := range g.Nodes {
		relation[i] = make([]bool, len(g.Nodes))
		for j, y := range g.Nodes {
			relation[i][j] = x.Kind == y.Kind && x.Text == y.Text && x.Ordered == y.Ordered && len(x.Items) == len(y.Items) && slices.Equal(keys[i], keys[j])
		}
	}
	for changed := true; changed; {
		changed = false
		for i := range relation {
			for j := range relation[i] {
				for k, child := range children[i] {
					if relation[i][j] && !relation[child][children[j][k]] {
						relation[i][j], changed = false, true
					}
				}
			}
		}
	}
	return relation
}

// show writes a graph in full.
func show(g api.Graph) string {
	var text strings.Builder
	fmt.Fprintf(&text, "root %d:", g.Root)
	for i, n := range g.Nodes {
		if i == 40 {
			fmt.Fprintf(&text, " .. (%d nodes)", len(g.Nodes))
			break
		}
		fmt.Fprintf(&text, " %d(%d %.20q", i, n.Kind, n.Text)
		if n.Ordered {
			text.WriteString(" ordered")
		}
		fmt.Fprintf(&text, " %v %v)", n.Keys[:min(len(n.Keys), 20)], n.Items[:min(len(n.Items), 20)])
	}
	return text.String()
}

// identical reports whether two graphs have the same fields; nil and empty slices are the same.
func identical(a, b api.Graph) bool {
	return a.Root == b.Root && slices.EqualFunc(a.Nodes, b.Nodes, func(x, y api.Node) bool {
		return x.Kind == y.Kind && x.Text == y.Text && x.Ordered == y.Ordered && slices.Equal(x.Keys, y.Keys) && slices.Equal(x.Items, y.Items)
	})
}

// clone returns a copy of a graph.
func clone(g api.Graph) api.Graph {
	c := api.Graph{Root: g.Root}
	for _, n := range g.Nodes {
		n.Keys, n.Items = slices.Clone(n.Keys), slices.Clone(n.Items)
		c.Nodes = append(c.Nodes, n)
	}
	return c
}

// spoil overwrites the memory of a graph, with its spare capacity.
func spoil(g api.Graph) {
	for i, n := range g.Nodes {
		for _, references := range [][]int{n.Keys, n.Items} {
			references = references[:cap(references)]
			for j := range references {
				references[j] = -1
			}
		}
		g.Nodes[i] = api.Node{Kind: -1}
	}
}

// parsed returns the tree with a key text.
func parsed(t *testing.T, s string) api.Graph {
	t.Helper()
	g, e := canon.ParseKey(s)
	if e != api.OK {
		t.Fatalf("ParseKey(%.100q): error %d", s, e)
	}
	return g
}

// The nodes of which the tests' graphs consist.

func text(s string) api.Node          { return api.Node{Kind: api.Text, Text: s} }
func integer(s string) api.Node       { return api.Node{Kind: api.Int, Text: s} }
func list(items ...int) api.Node      { return api.Node{Kind: api.List, Items: items} }
func tag(name string, i int) api.Node { return api.Node{Kind: api.Tag, Text: name, Items: []int{i}} }

// entries returns an unordered map; keys and values alternate.
func entries(references ...int) api.Node {
	n := api.Node{Kind: api.Map}
	for i := 0; i < len(references); i += 2 {
		n.Keys = append(n.Keys, references[i])
		n.Items = append(n.Items, references[i+1])
	}
	return n
}

// inOrder returns the ordered map.
func inOrder(n api.Node) api.Node {
	n.Ordered = true
	return n
}

// rooted returns the graph with the root 0.
func rooted(nodes ...api.Node) api.Graph { return api.Graph{Nodes: nodes} }

// grower builds random graphs.
type grower struct {
	random  *rand.Rand
	size    int
	acyclic bool
	nodes   []api.Node
	// values are the nodes that do not belong to keys and can be referenced.
	values []int
}

// validGraph returns a random valid graph of about size nodes, of few kinds, often with shared nodes, and often with cycles unless it has to be acyclic.
func validGraph(random *rand.Rand, size int, acyclic bool) api.Graph {
	for {
		g := grower{random: random, size: 1 + random.Intn(size), acyclic: acyclic}
		g.grow()
		if v := shuffled(random, api.Graph{Nodes: g.nodes}); graph.Check(v) == api.OK {
			return v
		}
	}
}

// grow adds a node and those that it reaches, and returns its index.
func (g *grower) grow() int {
	if len(g.values) > 0 && g.random.Intn(3) == 0 {
		return g.values[g.random.Intn(len(g.values))]
	}
	at := len(g.nodes)
	g.nodes = append(g.nodes, api.Node{})
	if !g.acyclic {
		g.values = append(g.values, at)
	}
	n := []api.Node{integer("1"), integer("2"), text("1"), list()}[g.random.Intn(4)]
	if len(g.nodes) < g.size {
		n = g.container()
	}
	g.nodes[at] = n
	if g.acyclic {
		g.values = append(g.values, at)
	}
	return at
}

// container returns a list, a map or a tag.
func (g *grower) container() api.Node {
	switch g.random.Intn(4) {
	case 0:
		return tag([]string{"t", "u"}[g.random.Intn(8)/7], g.grow())
	case 1, 2:
		n := list()
		for range 1 + g.random.Intn(3) {
			n.Items = append(n.Items, g.grow())
		}
		return n
	}
	n := api.Node{Kind: api.Map, Ordered: g.random.Intn(2) == 0}
	for _, key := range g.random.Perm(4)[:1+g.random.Intn(3)] {
		n.Keys = append(n.Keys, g.key(key))
		n.Items = append(n.Items, g.grow())
	}
	return n
}

// key adds the nodes of a key of which the parts are equal or in no order, and returns its index.
func (g *grower) key(number int) int {
	at := len(g.nodes)
	g.nodes = append(g.nodes, [4][]api.Node{
		{integer("10")},
		{integer("9")},
		{list(at+1, at+2), integer("1"), integer("1")},
		{entries(at+1, at+2, at+3, at+4), text("b"), list(), text("a"), list()},
	}[number]...)
	return at
}

// shuffled returns the graph with its nodes in another order, and the entries of unordered maps too.
func shuffled(random *rand.Rand, g api.Graph) api.Graph {
	order := random.Perm(len(g.Nodes))
	s := api.Graph{Nodes: make([]api.Node, len(g.Nodes)), Root: order[g.Root]}
	for i, n := range clone(g).Nodes {
		for _, references := range [][]int{n.Keys, n.Items} {
			for j, r := range references {
				references[j] = order[r]
			}
		}
		if n.Kind == api.Map && !n.Ordered {
			random.Shuffle(len(n.Keys), func(a, b int) {
				n.Keys[a], n.Keys[b] = n.Keys[b], n.Keys[a]
				n.Items[a], n.Items[b] = n.Items[b], n.Items[a]
			})
		}
		s.Nodes[order[i]] = n
	}
	return s
}

// unrolled returns an equal graph: every node that is no key is there twice, and each reference to it leads to one of the two. It can be invalid by its depth.
func unrolled(random *rand.Rand, g api.Graph) api.Graph {
	size := len(g.Nodes)
	c := api.Graph{Root: g.Root, Nodes: append(clone(g).Nodes, clone(g).Nodes...)}
	isKey := make([]bool, size)
	var mark func(node int)
	mark = func(node int) {
		isKey[node] = true
		for _, part := range slices.Concat(g.Nodes[node].Keys, g.Nodes[node].Items) {
			mark(part)
		}
	}
	for _, n := range g.Nodes {
		for _, key := range n.Keys {
			mark(key)
		}
	}
	for i, n := range c.Nodes {
		for j, item := range n.Items {
			n.Items[j] += i / size * size
			if !isKey[item] {
				n.Items[j] = item + random.Intn(2)*size
			}
		}
		for j := range n.Keys {
			n.Keys[j] += i / size * size
		}
	}
	return pruned(c)
}

// pruned returns the graph without the nodes that the root does not reach.
func pruned(g api.Graph) api.Graph {
	number := map[int]int{}
	var p api.Graph
	var visit func(node int)
	visit = func(node int) {
		if _, ok := number[node]; ok {
			return
		}
		number[node] = len(p.Nodes)
		p.Nodes = append(p.Nodes, g.Nodes[node])
		for _, r := range slices.Concat(g.Nodes[node].Keys, g.Nodes[node].Items) {
			visit(r)
		}
	}
	visit(g.Root)
	for _, n := range p.Nodes {
		for _, references := range [][]int{n.Keys, n.Items} {
			for j, r := range references {
				references[j] = number[r]
			}
		}
	}
	return p
}

// smallGraphs returns all valid graphs of up to three nodes of some kinds.
func smallGraphs() []api.Graph {
	var all []api.Graph
	for size := 1; size <= 3; size++ {
		choices := []api.Node{integer("1"), integer("2"), list()}
		for i := range size {
			choices = append(choices, list(i), tag("t", i))
			for j := range size {
				choices = append(choices, list(i, j), entries(i, j), inOrder(entries(i, j)))
				for k := range size {
					choices = append(choices, entries(i, k, j, k), inOrder(entries(i, k, j, k)))
				}
			}
		}
		nodes := make([]api.Node, size)
		var choose func(at int)
		choose = func(at int) {
			if at < size {
				for _, n := range choices {
					nodes[at] = n
					choose(at + 1)
				}
				return
			}
			for root := range size {
				if g := (api.Graph{Nodes: nodes, Root: root}); graph.Check(g) == api.OK {
					all = append(all, clone(g))
				}
			}
		}
		choose(0)
	}
	return all
}
