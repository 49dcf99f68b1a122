package canon_test

import (
	"encoding/hex"
	"fmt"
	"math/big"
	"math/rand"
	"slices"
	"strconv"
	"strings"
	"testing"

	"rosetta/api"
	"rosetta/canon"
	"rosetta/graph"
)

// The reference unfolds values and follows the words of the document, with the library's arithmetic.

// tree is a node of an unfolded value.
type tree struct {
	kind    int
	text    string
	ordered bool
	keys    []*tree
	items   []*tree
}

// unfold returns the tree of a node that reaches no cycle.
func unfold(g api.Graph, node int) *tree {
	n := g.Nodes[node]
	v := &tree{kind: n.Kind, text: n.Text, ordered: n.Ordered}
	for _, key := range n.Keys {
		v.keys = append(v.keys, unfold(g, key))
	}
	for _, item := range n.Items {
		v.items = append(v.items, unfold(g, item))
	}
	return v
}

// rational returns the number that m * base^exp denotes.
func rational(text, separator string, base int64) *big.Rat {
	m, exp, ok := strings.Cut(text, separator)
	e, err := strconv.Atoi(exp)
	r, good := new(big.Rat).SetString(m)
	if !ok || err != nil || !good {
		panic(text)
	}
	size := e
	if e < 0 {
		size = -e
	}
	power := new(big.Rat).SetInt(new(big.Int).Exp(big.NewInt(base), big.NewInt(int64(size)), nil))
	if e < 0 {
		return r.Quo(r, power)
	}
	return r.Mul(r, power)
}

// referenceFloats compares floats: first by the classes -inf, finite, inf and nan, then as numbers, then by their signs.
func referenceFloats(a, b string) int {
	class := func(f string) int {
		if at := slices.Index([]string{"-inf", "", "inf", "nan"}, f); at >= 0 {
			return at
		}
		return 1
	}
	if class(a) != class(b) || class(a) != 1 {
		return class(a) - class(b)
	}
	if order := rational(a, "p", 2).Cmp(rational(b, "p", 2)); order != 0 {
		return order
	}
	switch {
	case a == b:
		return 0
	case a == "-0p0":
		return -1
	}
	return 1
}

// referenceCompare is the order of the document.
func referenceCompare(a, b *tree) int {
	if a.kind != b.kind {
		return a.kind - b.kind
	}
	switch a.kind {
	case api.Int:
		return rational(a.text+"e0", "e", 10).Cmp(rational(b.text+"e0", "e", 10))
	case api.Dec:
		return rational(a.text, "e", 10).Cmp(rational(b.text, "e", 10))
	case api.Float:
		return referenceFloats(a.text, b.text)
	case api.Bool:
		return len(b.text) - len(a.text)
	case api.Map:
		return compareMaps(a, b)
	}
	if a.text != b.text {
		return strings.Compare(a.text, b.text)
	}
	for i := 0; i < len(a.items) && i < len(b.items); i++ {
		if order := referenceCompare(a.items[i], b.items[i]); order != 0 {
			return order
		}
	}
	return len(a.items) - len(b.items)
}

func compareMaps(a, b *tree) int {
	if a.ordered != b.ordered {
		if b.ordered {
			return -1
		}
		return 1
	}
	first, second := entryOrder(a), entryOrder(b)
	for i := 0; i < len(first) && i < len(second); i++ {
		if order := referenceCompare(a.keys[first[i]], b.keys[second[i]]); order != 0 {
			return order
		}
		if order := referenceCompare(a.items[first[i]], b.items[second[i]]); order != 0 {
			return order
		}
	}
	return len(first) - len(second)
}

// entryOrder returns the numbers of the entries of a map in their order: that of the keys for unordered maps.
func entryOrder(m *tree) []int {
	var order []int
	for i := range m.keys {
		order = append(order, i)
		for j := len(order) - 1; !m.ordered && j > 0 && referenceCompare(m.keys[order[j]], m.keys[order[j-1]]) < 0; j-- {
			order[j], order[j-1] = order[j-1], order[j]
		}
	}
	return order
}

// referenceKey is the key text of the document.
func referenceKey(v *tree) string {
	var parts []string
	switch v.kind {
	case api.Null:
		return "null"
	case api.Text:
		return `"` + strings.ReplaceAll(strings.ReplaceAll(v.text, `\`, `\\`), `"`, `\"`) + `"`
	case api.Bytes:
		return "#" + hex.EncodeToString([]byte(v.text))
	case api.Instant:
		return "@" + v.text
	case api.Local:
		return "%" + v.text
	case api.List:
		for _, item := range v.items {
			parts = append(parts, referenceKey(item))
		}
		return "[" + strings.Join(parts, ",") + "]"
	case api.Tag:
		return "!" + v.text + "(" + referenceKey(v.items[0]) + ")"
	case api.Map:
		for _, i := range entryOrder(v) {
			parts = append(parts, referenceKey(v.keys[i])+"="+referenceKey(v.items[i]))
		}
		if v.ordered {
			return "<" + strings.Join(parts, ",") + ">"
		}
		return "{" + strings.Join(parts, ",") + "}"
	}
	return v.text
}

// referenceTree returns the graph of a tree in normal form.
func referenceTree(v *tree) api.Graph {
	var g api.Graph
	var add func(v *tree) int
	add = func(v *tree) int {
		at := len(g.Nodes)
		g.Nodes = append(g.Nodes, api.Node{Kind: v.kind, Text: v.text, Ordered: v.ordered})
		var keys, items []int
		for _, i := range entryOrder(v) {
			keys = append(keys, add(v.keys[i]))
			items = append(items, add(v.items[i]))
		}
		if v.kind != api.Map {
			for _, item := range v.items {
				items = append(items, add(item))
			}
		}
		g.Nodes[at].Keys, g.Nodes[at].Items = keys, items
		return at
	}
	add(v)
	return g
}

// show writes a graph in full.
func show(g api.Graph) string {
	var text strings.Builder
	fmt.Fprintf(&text, "root %d:", g.Root)
	for i, n := range g.Nodes {
		if i == 40 {
			fmt.Fprintf(&text, " .. (%d nodes)", len(g.Nodes))
			break
		}
		fmt.Fprintf(&text, " %d(%d %.20q", i, n.Kind, n.Text)
		if n.Ordered {
			text.WriteString(" ordered")
		}
		fmt.Fprintf(&text, " %v %v)", n.Keys, n.Items)
	}
	return text.String()
}

// identical reports whether two graphs have the same fields; nil and empty slices are the same.
func identical(a, b api.Graph) bool {
	return a.Root == b.Root && slices.EqualFunc(a.Nodes, b.Nodes, func(x, y api.Node) bool {
		return x.Kind == y.Kind && x.Text == y.Text && x.Ordered == y.Ordered && slices.Equal(x.Keys, y.Keys) && slices.Equal(x.Items, y.Items)
	})
}

// clone returns a copy of a graph.
func clone(g api.Graph) api.Graph {
	c := api.Graph{Root: g.Root}
	for _, n := range g.Nodes {
		n.Keys, n.Items = slices.Clone(n.Keys), slices.Clone(n.Items)
		c.Nodes = append(c.Nodes, n)
	}
	return c
}

// spoil changes all memory of a graph.
func spoil(g api.Graph) {
	for i, n := range g.Nodes {
		for _, list := range [][]int{n.Keys[:cap(n.Keys)], n.Items[:cap(n.Items)]} {
			for j := range list {
				list[j] = -1
			}
		}
		g.Nodes[i] = api.Node{Kind: -1}
	}
}

// must returns the function that returns a result without error.
func must(t *testing.T) func(g api.Graph, e api.Errno) api.Graph {
	return func(g api.Graph, e api.Errno) api.Graph {
		t.Helper()
		if e != api.OK {
			t.Fatalf("error %d", e)
		}
		return g
	}
}

// parsed returns the tree with a key text.
func parsed(t *testing.T, s string) api.Graph {
	t.Helper()
	g, e := canon.ParseKey(s)
	if e != api.OK {
		t.Fatalf("ParseKey(%.100q): error %d", s, e)
	}
	return g
}

// The nodes of which the tests' graphs consist.

func scalar(kind int, text string) api.Node { return api.Node{Kind: kind, Text: text} }
func text(s string) api.Node                { return api.Node{Kind: api.Text, Text: s} }
func integer(s string) api.Node             { return api.Node{Kind: api.Int, Text: s} }
func list(items ...int) api.Node            { return api.Node{Kind: api.List, Items: items} }
func tag(name string, item int) api.Node {
	return api.Node{Kind: api.Tag, Text: name, Items: []int{item}}
}

// entries returns an unordered map; keys and values alternate.
func entries(references ...int) api.Node {
	n := api.Node{Kind: api.Map}
	for i := 0; i < len(references); i += 2 {
		n.Keys = append(n.Keys, references[i])
		n.Items = append(n.Items, references[i+1])
	}
	return n
}

// inOrder returns the ordered map.
func inOrder(n api.Node) api.Node {
	n.Ordered = true
	return n
}

// rooted returns the graph with the root 0.
func rooted(nodes ...api.Node) api.Graph { return api.Graph{Nodes: nodes} }

// doubled returns lists of the given depth that contain the next list twice, around a scalar.
func doubled(depth int, last api.Node) api.Graph {
	var g api.Graph
	for i := range depth {
		g.Nodes = append(g.Nodes, list(i+1, i+1))
	}
	g.Nodes = append(g.Nodes, last)
	return g
}

// invalidGraphs returns graphs that graph.Check rejects for each of its reasons.
func invalidGraphs() []api.Graph {
	deep := doubled(api.MaxDepth+1, text("a"))
	many := api.Graph{Nodes: make([]api.Node, api.MaxNodes+1)}
	for i := 1; i <= api.MaxNodes; i++ {
		many.Nodes[0].Items = append(many.Nodes[0].Items, i)
	}
	many.Nodes[0].Kind = api.List
	return []api.Graph{
		{},
		{Root: 1, Nodes: []api.Node{text("a")}},
		{Root: -1, Nodes: []api.Node{text("a")}},
		rooted(text("\xff")),
		rooted(integer("01")),
		rooted(list(1)),
		rooted(text("a"), text("b")),
		rooted(api.Node{Kind: -1}),
		rooted(api.Node{Kind: api.Kinds}),
		rooted(entries(1, 1), text("a")),
		rooted(entries(1, 0, 2, 0), text("a"), text("a")),
		rooted(list(0, 1), integer("x")),
		deep,
		many,
	}
}

// grower builds random valid graphs.
type grower struct {
	random *rand.Rand
	size   int
	width  int
	cycles bool
	nodes  []api.Node
	// values are the nodes that do not belong to keys; open those that are not complete.
	values []int
	open   map[int]bool
}

// validGraph returns a random valid graph of about size nodes, with shared nodes, and with cycles if they are allowed.
func validGraph(random *rand.Rand, size int, cycles bool) api.Graph {
	for {
		g := grower{random: random, size: 1 + random.Intn(size), width: 1 + random.Intn(4), cycles: cycles, open: map[int]bool{}}
		g.grow(false)
		if v := shuffled(random, api.Graph{Nodes: g.nodes}); graph.Check(v) == api.OK {
			return v
		}
	}
}

// grow adds a node and those that it reaches, and returns its index.
func (g *grower) grow(inKey bool) int {
	if !inKey && len(g.values) > 0 && g.random.Intn(8) == 0 {
		if old := g.values[g.random.Intn(len(g.values))]; g.cycles || !g.open[old] {
			return old
		}
	}
	at := len(g.nodes)
	g.nodes = append(g.nodes, api.Node{})
	if !inKey {
		g.values = append(g.values, at)
	}
	g.open[at] = true
	n := g.leaf()
	if len(g.nodes) < g.size && (!inKey || g.random.Intn(2) == 0) {
		n = g.container(inKey)
	}
	g.open[at] = false
	g.nodes[at] = n
	return at
}

// leaf returns a scalar or an empty container.
func (g *grower) leaf() api.Node {
	leaves := []api.Node{scalar(api.Null, ""), integer("1"), scalar(api.Bytes, "a"), list(), entries(), inOrder(entries()), integer("-1"), integer("10"), integer("9"), scalar(api.Bool, "true"), scalar(api.Bool, "false"), scalar(api.Float, "-0p0"), scalar(api.Float, "0p0"), scalar(api.Float, "nan"), scalar(api.Dec, "-15e-1"), scalar(api.Dec, "2e1"), scalar(api.Local, "2026-11-20"), scalar(api.Instant, "2026-11-20T00:00:00Z")}
	if g.random.Intn(2) == 0 {
		return text([]string{"a", "b", "", `"\,`}[g.random.Intn(4)])
	}
	return leaves[g.random.Intn(len(leaves))]
}

// container returns a list, a map or a tag.
func (g *grower) container(inKey bool) api.Node {
	count := 1 + g.random.Intn(g.width)
	switch g.random.Intn(5) {
	case 0:
		return tag([]string{"t", "u:1"}[g.random.Intn(2)], g.grow(inKey))
	case 1, 2:
		n := api.Node{Kind: api.List}
		for range count {
			n.Items = append(n.Items, g.grow(inKey))
		}
		return n
	}
	n := api.Node{Kind: api.Map, Ordered: g.random.Intn(2) == 0}
	for range count {
		n.Keys = append(n.Keys, g.grow(true))
		n.Items = append(n.Items, g.grow(inKey))
	}
	return n
}

// shuffled returns the graph with its nodes in another order, and the entries of unordered maps too.
func shuffled(random *rand.Rand, g api.Graph) api.Graph {
	order := random.Perm(len(g.Nodes))
	s := api.Graph{Nodes: make([]api.Node, len(g.Nodes)), Root: order[g.Root]}
	for i, n := range clone(g).Nodes {
		for _, references := range [][]int{n.Keys, n.Items} {
			for j, r := range references {
				references[j] = order[r]
			}
		}
		if n.Kind == api.Map && !n.Ordered {
			random.Shuffle(len(n.Keys), func(a, b int) {
				n.Keys[a], n.Keys[b] = n.Keys[b], n.Keys[a]
				n.Items[a], n.Items[b] = n.Items[b], n.Items[a]
			})
		}
		s.Nodes[order[i]] = n
	}
	return s
}
