package graph_test

import (
	"fmt"
	"math/rand"
	"slices"
	"strings"
	"testing"
	"unicode/utf8"

	"rosetta/api"
	"rosetta/graph"
)

// The reference follows the words of the document, by definitions that are tried out one by one, and without regard to time.

// referenceCanonical reports whether a text is canonical, of those that the tests use.
func referenceCanonical(kind int, text string) bool {
	canonical := map[int][]string{
		api.Null:    {""},
		api.Bool:    {"true", "false"},
		api.Int:     {"0", "1"},
		api.Dec:     {"0e0", "1e0"},
		api.Float:   {"0p0", "-0p0", "1p0", "nan"},
		api.Instant: {"2026-11-20T09:46:38Z"},
		api.Local:   {"2026-11-20", "09:46:38.5", "2026-11-20T09:46:38"},
	}
	return kind == api.Text && utf8.ValidString(text) || kind == api.Bytes || slices.Contains(canonical[kind], text)
}

func referenceTagName(name string) bool {
	rest := strings.Trim(name, "ABCDEFGHIJKLMNOPQRSTUVWXYZabcdefghijklmnopqrstuvwxyz0123456789_-.:")
	return rest == "" && len(name) >= 1 && len(name) <= 64
}

func referenceForm(n api.Node) bool {
	switch {
	case n.Kind >= 0 && n.Kind < api.List:
		return referenceCanonical(n.Kind, n.Text) && !n.Ordered && len(n.Keys) == 0 && len(n.Items) == 0
	case n.Kind == api.List:
		return n.Text == "" && !n.Ordered && len(n.Keys) == 0
	case n.Kind == api.Map:
		return n.Text == "" && len(n.Keys) == len(n.Items)
	case n.Kind == api.Tag:
		return referenceTagName(n.Text) && !n.Ordered && len(n.Keys) == 0 && len(n.Items) == 1
	}
	return false
}

// allReferences lists the references of a node.
func allReferences(n api.Node) []int { return slices.Concat(n.Keys, n.Items) }

// reachMatrix reports for each pair of nodes whether the first one reaches the other one, itself among them.
func reachMatrix(nodes []api.Node) [][]bool {
	reach := make([][]bool, len(nodes))
	for i, n := range nodes {
		reach[i] = make([]bool, len(nodes))
		reach[i][i] = true
		for _, r := range allReferences(n) {
			reach[i][r] = true
		}
	}
	for k := range nodes {
		for i := range nodes {
			for j := range nodes {
				reach[i][j] = reach[i][j] || reach[i][k] && reach[k][j]
			}
		}
	}
	return reach
}

// referenceCount returns how often a node occurs among the references of a graph.
func referenceCount(g api.Graph, node int) int {
	all := []int{g.Root}
	for _, n := range g.Nodes {
		all = append(all, allReferences(n)...)
	}
	count := 0
	for _, r := range all {
		if r == node {
			count++
		}
	}
	return count
}

// isKeyNode reports whether a node is a node of a key.
func isKeyNode(nodes []api.Node, reach [][]bool, node int) bool {
	for _, n := range nodes {
		for _, key := range n.Keys {
			if reach[key][node] {
				return true
			}
		}
	}
	return false
}

// referenceEqual is the equality of keys, by the definition of condition 4.
func referenceEqual(nodes []api.Node, a, b int) bool {
	x, y := nodes[a], nodes[b]
	if x.Kind != y.Kind || x.Text != y.Text || x.Ordered != y.Ordered || len(x.Items) != len(y.Items) {
		return false
	}
	if x.Kind == api.Map && !x.Ordered {
		return entriesAmong(nodes, x, y)
	}
	for i := range x.Items {
		if x.Kind == api.Map && !referenceEqual(nodes, x.Keys[i], y.Keys[i]) {
			return false
		}
		if !referenceEqual(nodes, x.Items[i], y.Items[i]) {
			return false
		}
	}
	return true
}

// entriesAmong reports whether x has, for each of its entries, an equal one of y.
func entriesAmong(nodes []api.Node, x, y api.Node) bool {
	for i := range x.Items {
		found := false
		for j := range y.Items {
			found = found || referenceEqual(nodes, x.Keys[i], y.Keys[j]) && referenceEqual(nodes, x.Items[i], y.Items[j])
		}
		if !found {
			return false
		}
	}
	return true
}

// referenceDepth is the depth by the definition, by all paths of components.
func referenceDepth(g api.Graph, reach [][]bool) int {
	known := map[int]int{}
	var heaviest func(node int) int
	heaviest = func(node int) int {
		if weight, ok := known[node]; ok {
			return weight
		}
		size, below := 0, 0
		for i := range g.Nodes {
			if reach[node][i] && reach[i][node] {
				size++
				for _, r := range allReferences(g.Nodes[i]) {
					if !reach[r][node] {
						below = max(below, heaviest(r))
					}
				}
			}
		}
		known[node] = size + below
		return size + below
	}
	return heaviest(g.Root) - 1
}

// hasNoCycles reports whether no node reaches itself by a reference.
func hasNoCycles(nodes []api.Node, reach [][]bool) bool {
	for i, n := range nodes {
		for _, r := range allReferences(n) {
			if reach[r][i] {
				return false
			}
		}
	}
	return true
}

// referenceCheck is the definition of Check.
func referenceCheck(g api.Graph) api.Errno {
	if len(g.Nodes) > 4096 {
		return api.ErrMany
	}
	isIndex := func(r int) bool { return 0 <= r && r < len(g.Nodes) }
	if !isIndex(g.Root) {
		return api.ErrForm
	}
	for _, n := range g.Nodes {
		if !referenceForm(n) {
			return api.ErrForm
		}
		for _, r := range allReferences(n) {
			if !isIndex(r) {
				return api.ErrForm
			}
		}
	}
	reach := reachMatrix(g.Nodes)
	for i := range g.Nodes {
		if !reach[g.Root][i] || isKeyNode(g.Nodes, reach, i) && referenceCount(g, i) != 1 {
			return api.ErrForm
		}
	}
	for _, n := range g.Nodes {
		for i := range n.Keys {
			for j := range i {
				if referenceEqual(g.Nodes, n.Keys[i], n.Keys[j]) {
					return api.ErrTwice
				}
			}
		}
	}
	if referenceDepth(g, reach) > 32 {
		return api.ErrDeep
	}
	return api.OK
}

// show writes a graph in full.
func show(g api.Graph) string {
	var text strings.Builder
	fmt.Fprintf(&text, "root %d:", g.Root)
	for i, n := range g.Nodes {
		fmt.Fprintf(&text, " %d(%d %.20q", i, n.Kind, n.Text)
		if n.Ordered {
			text.WriteString(" ordered")
		}
		fmt.Fprintf(&text, " %v %v)", n.Keys, n.Items)
	}
	return text.String()
}

// identical reports whether two graphs have the same fields; nil and empty slices are the same.
func identical(a, b api.Graph) bool {
	return a.Root == b.Root && slices.EqualFunc(a.Nodes, b.Nodes, func(x, y api.Node) bool {
		return x.Kind == y.Kind && x.Text == y.Text && x.Ordered == y.Ordered && slices.Equal(x.Keys, y.Keys) && slices.Equal(x.Items, y.Items)
	})
}

// clone returns a copy of a graph.
func clone(g api.Graph) api.Graph {
	c := api.Graph{Root: g.Root}
	for _, n := range g.Nodes {
		n.Keys, n.Items = slices.Clone(n.Keys), slices.Clone(n.Items)
		c.Nodes = append(c.Nodes, n)
	}
	return c
}

// spoil changes all memory of a graph.
func spoil(g api.Graph) {
	for i, n := range g.Nodes {
		for _, list := range [][]int{n.Keys[:cap(n.Keys)], n.Items[:cap(n.Items)]} {
			for j := range list {
				list[j] = -1
			}
		}
		g.Nodes[i] = api.Node{Kind: -1}
	}
}

// wantGraph checks the result of a function.
func wantGraph(t *testing.T, what string, got api.Graph, e api.Errno, want api.Graph, wantE api.Errno) {
	t.Helper()
	if e != wantE || !identical(got, want) {
		t.Fatalf("%s:\n got %s, %d\nwant %s, %d", what, show(got), e, show(want), wantE)
	}
	if e == api.OK && graph.Check(got) != api.OK {
		t.Fatalf("%s: the result is not valid: %s", what, show(got))
	}
}

// must returns the function that returns a result without error.
func must(t *testing.T) func(g api.Graph, e api.Errno) api.Graph {
	return func(g api.Graph, e api.Errno) api.Graph {
		t.Helper()
		if e != api.OK {
			t.Fatalf("error %d", e)
		}
		return g
	}
}

// The nodes of which the tests' graphs consist.

func scalar(kind int, text string) api.Node { return api.Node{Kind: kind, Text: text} }
func text(s string) api.Node                { return api.Node{Kind: api.Text, Text: s} }
func list(items ...int) api.Node            { return api.Node{Kind: api.List, Items: items} }
func tag(name string, item int) api.Node {
	return api.Node{Kind: api.Tag, Text: name, Items: []int{item}}
}

// entries returns an unordered map; keys and values alternate.
func entries(references ...int) api.Node {
	n := api.Node{Kind: api.Map}
	for i := 0; i < len(references); i += 2 {
		n.Keys = append(n.Keys, references[i])
		n.Items = append(n.Items, references[i+1])
	}
	return n
}

// inOrder returns the ordered map.
func inOrder(n api.Node) api.Node {
	n.Ordered = true
	return n
}

// rooted returns the graph with the root 0.
func rooted(nodes ...api.Node) api.Graph { return api.Graph{Nodes: nodes} }

// grower builds random graphs.
type grower struct {
	random *rand.Rand
	size   int
	width  int
	nodes  []api.Node
	// values are the nodes that do not belong to keys.
	values []int
}

// randomGraph returns a graph of about size nodes; some of these graphs are valid, and most of the others nearly so.
func randomGraph(random *rand.Rand, size int) api.Graph {
	g := grower{random: random, size: 1 + random.Intn(size), width: 1 + random.Intn(3)}
	g.grow(false)
	if random.Intn(5) == 0 {
		g.spoil()
	}
	return shuffled(random, api.Graph{Nodes: g.nodes})
}

// validGraph returns a graph of about size nodes that Check accepts.
func validGraph(random *rand.Rand, size int) api.Graph {
	for {
		if g := randomGraph(random, size); graph.Check(g) == api.OK {
			return g
		}
	}
}

// grow adds a node and those that it reaches, and returns its index.
func (g *grower) grow(inKey bool) int {
	if !inKey && len(g.values) > 0 && g.random.Intn(8) == 0 {
		return g.values[g.random.Intn(len(g.values))]
	}
	at := len(g.nodes)
	g.nodes = append(g.nodes, api.Node{})
	if !inKey {
		g.values = append(g.values, at)
	}
	n := g.leaf()
	if len(g.nodes) < g.size && (!inKey || g.random.Intn(2) == 0) {
		n = g.container(inKey)
	}
	g.nodes[at] = n
	return at
}

// leaf returns a scalar or an empty container.
func (g *grower) leaf() api.Node {
	leaves := []api.Node{scalar(api.Null, ""), scalar(api.Int, "1"), scalar(api.Bytes, "a"), list(), entries(), inOrder(entries())}
	if g.random.Intn(2) == 0 {
		return text([]string{"a", "b", "c", "d"}[g.random.Intn(4)])
	}
	return leaves[g.random.Intn(len(leaves))]
}

// container returns a list, a map or a tag.
func (g *grower) container(inKey bool) api.Node {
	count := 1 + g.random.Intn(g.width)
	switch g.random.Intn(5) {
	case 0:
		return tag([]string{"t", "u:1"}[g.random.Intn(2)], g.grow(inKey))
	case 1, 2:
		n := api.Node{Kind: api.List}
		for range count {
			n.Items = append(n.Items, g.grow(inKey))
		}
		return n
	}
	n := api.Node{Kind: api.Map, Ordered: g.random.Intn(2) == 0}
	for range count {
		n.Keys = append(n.Keys, g.grow(true))
		n.Items = append(n.Items, g.grow(inKey))
	}
	return n
}

// spoil changes something at random.
func (g *grower) spoil() {
	i := g.random.Intn(len(g.nodes))
	n := &g.nodes[i]
	other := g.random.Intn(len(g.nodes))
	switch g.random.Intn(6) {
	case 0:
		n.Ordered = !n.Ordered
	case 1:
		n.Text += "a"
	case 2:
		n.Kind = g.random.Intn(api.Kinds)
	case 3:
		if len(n.Keys) > 0 {
			n.Keys[g.random.Intn(len(n.Keys))] = other
		}
	case 4:
		if len(n.Items) > 0 {
			n.Items[g.random.Intn(len(n.Items))] = other
		}
	case 5:
		n.Items = append(n.Items, other)
	}
}

// shuffled returns the graph with its nodes in another order.
func shuffled(random *rand.Rand, g api.Graph) api.Graph {
	order := random.Perm(len(g.Nodes))
	s := api.Graph{Nodes: make([]api.Node, len(g.Nodes)), Root: order[g.Root]}
	for i, n := range clone(g).Nodes {
		for _, references := range [][]int{n.Keys, n.Items} {
			for j, r := range references {
				references[j] = order[r]
			}
		}
		s.Nodes[order[i]] = n
	}
	return s
}
