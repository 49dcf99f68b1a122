package path_test

import (
	"fmt"
	"math/rand"
	"regexp"
	"slices"
	"strconv"
	"strings"
	"testing"

	"rosetta/api"
	"rosetta/canon"
	"rosetta/graph"
)

// The reference follows the definitions of the document.

var (
	itemForm = regexp.MustCompile(`^\[(0|[1-9][0-9]{0,8})\]$`)
	keyForm  = regexp.MustCompile(`(?s)^(?:\.([A-Za-z_][A-Za-z0-9_]*)|\{(.+)\})(?:@([1-9][0-9]{0,8}))?$`)
	nameForm = regexp.MustCompile(`^"[A-Za-z_][A-Za-z0-9_]*"$`)
)

// referenceStep returns the step whose text is s, and whether there is one.
func referenceStep(s string) (api.Step, bool) {
	if m := itemForm.FindStringSubmatch(s); m != nil {
		index, _ := strconv.Atoi(m[1])
		return api.Step{Index: index}, true
	}
	m := keyForm.FindStringSubmatch(s)
	if m == nil {
		return api.Step{}, false
	}
	index, _ := strconv.Atoi(m[3])
	if m[1] != "" {
		return api.Step{Index: index, Key: `"` + m[1] + `"`}, true
	}
	_, e := canon.ParseKey(m[2])
	return api.Step{Index: index, Key: m[2]}, e == api.OK && !nameForm.MatchString(m[2])
}

// referenceElement is an element of a pattern: its step, or its text if that is [*] or [**].
type referenceElement struct {
	text string
	step api.Step
}

// referenceParts returns all divisions of s into texts of elements.
func referenceParts(s string, patterns bool) [][]referenceElement {
	if s == "" {
		return [][]referenceElement{nil}
	}
	var all [][]referenceElement
	for end := 1; end <= len(s); end++ {
		first, ok := referenceElement{}, false
		if patterns && (s[:end] == "[*]" || s[:end] == "[**]") {
			first, ok = referenceElement{text: s[:end]}, true
		} else {
			first.step, ok = referenceStep(s[:end])
		}
		if !ok {
			continue
		}
		for _, rest := range referenceParts(s[end:], patterns) {
			all = append(all, append([]referenceElement{first}, rest...))
		}
	}
	return all
}

// referenceMatches tries all divisions of a path.
func referenceMatches(pattern []referenceElement, l api.Path) bool {
	if len(pattern) == 0 {
		return len(l) == 0
	}
	first := pattern[0]
	for size := 0; size <= len(l); size++ {
		fits := first.text == "[**]" || size == 1 && first.text == "[*]"
		if first.text == "" && size == 1 {
			fits = first.step.Key == l[0].Key && (l[0].Key != "" || first.step.Index == l[0].Index)
		}
		if fits && referenceMatches(pattern[1:], l[size:]) {
			return true
		}
	}
	return false
}

// keyOf returns the key text of a key.
func keyOf(g api.Graph, node int) string {
	sub, _ := graph.Sub(g, node)
	s, e := canon.Key(sub)
	if e != api.OK {
		panic(e)
	}
	return s
}

// child is an item of a node and the step to it.
type child struct {
	step api.Step
	node int
}

// children returns the items of a node in normal order.
func children(g api.Graph, node int) []child {
	n := g.Nodes[node]
	var all []child
	var keys []api.Graph
	for i, item := range n.Items {
		if n.Kind != api.Map {
			all = append(all, child{api.Step{Index: i}, item})
			continue
		}
		key, _ := graph.Sub(g, n.Keys[i])
		at := len(all)
		for !n.Ordered && at > 0 {
			if order, _ := canon.Compare(key, keys[at-1]); order > 0 {
				break
			}
			at--
		}
		keys = slices.Insert(keys, at, key)
		all = slices.Insert(all, at, child{api.Step{Key: keyOf(g, n.Keys[i])}, item})
	}
	return all
}

// childrenOf returns the items of all nodes.
func childrenOf(g api.Graph) [][]child {
	all := make([][]child, len(g.Nodes))
	for node := range all {
		all[node] = children(g, node)
	}
	return all
}

// visit is a node with its first path.
type visit struct {
	path api.Path
	node int
}

// referenceVisits returns the nodes in the order of the first visits.
func referenceVisits(g api.Graph, items [][]child) []visit {
	var all []visit
	stack := []visit{{nil, g.Root}}
	for len(stack) > 0 {
		v := stack[len(stack)-1]
		stack = stack[:len(stack)-1]
		if slices.ContainsFunc(all, func(w visit) bool { return w.node == v.node }) {
			continue
		}
		all = append(all, v)
		for _, c := range slices.Backward(items[v.node]) {
			stack = append(stack, visit{append(slices.Clone(v.path), c.step), c.node})
		}
	}
	return all
}

// referenceFind follows the steps of a valid path.
func referenceFind(g api.Graph, items [][]child, p api.Path) (int, api.Errno) {
	node := g.Root
	for _, step := range p {
		n := g.Nodes[node]
		if step.Key == "" && n.Kind != api.List && n.Kind != api.Tag || step.Key != "" && n.Kind != api.Map {
			return 0, api.ErrKind
		}
		at := slices.IndexFunc(items[node], func(c child) bool {
			return c.step.Key == step.Key && (step.Key != "" || c.step.Index == step.Index)
		})
		if at < 0 {
			return 0, api.ErrNone
		}
		node = items[node][at].node
	}
	return node, api.OK
}

// show writes a graph in full.
func show(g api.Graph) string {
	var text strings.Builder
	fmt.Fprintf(&text, "root %d:", g.Root)
	for i, n := range g.Nodes {
		if i == 40 {
			fmt.Fprintf(&text, " .. (%d nodes)", len(g.Nodes))
			break
		}
		fmt.Fprintf(&text, " %d(%d %.20q", i, n.Kind, n.Text)
		if n.Ordered {
			text.WriteString(" ordered")
		}
		fmt.Fprintf(&text, " %v %v)", n.Keys[:min(len(n.Keys), 20)], n.Items[:min(len(n.Items), 20)])
	}
	return text.String()
}

// identical reports whether two graphs have the same fields; nil and empty slices are the same.
func identical(a, b api.Graph) bool {
	return a.Root == b.Root && slices.EqualFunc(a.Nodes, b.Nodes, func(x, y api.Node) bool {
		return x.Kind == y.Kind && x.Text == y.Text && x.Ordered == y.Ordered && slices.Equal(x.Keys, y.Keys) && slices.Equal(x.Items, y.Items)
	})
}

// clone returns a copy of a graph.
func clone(g api.Graph) api.Graph {
	c := api.Graph{Root: g.Root}
	for _, n := range g.Nodes {
		n.Keys, n.Items = slices.Clone(n.Keys), slices.Clone(n.Items)
		c.Nodes = append(c.Nodes, n)
	}
	return c
}

// spoil overwrites the memory of a graph.
func spoil(g api.Graph) {
	for i, n := range g.Nodes {
		for _, references := range [][]int{n.Keys, n.Items} {
			for j := range references {
				references[j] = -1
			}
		}
		g.Nodes[i] = api.Node{Kind: -1}
	}
}

// parsed returns the tree with a key text.
func parsed(t *testing.T, s string) api.Graph {
	t.Helper()
	g, e := canon.ParseKey(s)
	if e != api.OK {
		t.Fatalf("ParseKey(%.100q): error %d", s, e)
	}
	return g
}

// The nodes of which the tests' graphs consist.

func text(s string) api.Node          { return api.Node{Kind: api.Text, Text: s} }
func integer(s string) api.Node       { return api.Node{Kind: api.Int, Text: s} }
func list(items ...int) api.Node      { return api.Node{Kind: api.List, Items: items} }
func tag(name string, i int) api.Node { return api.Node{Kind: api.Tag, Text: name, Items: []int{i}} }

// entries returns an unordered map; keys and values alternate.
func entries(references ...int) api.Node {
	n := api.Node{Kind: api.Map}
	for i := 0; i < len(references); i += 2 {
		n.Keys = append(n.Keys, references[i])
		n.Items = append(n.Items, references[i+1])
	}
	return n
}

// inOrder returns the ordered map.
func inOrder(n api.Node) api.Node {
	n.Ordered = true
	return n
}

// rooted returns the graph with the root 0.
func rooted(nodes ...api.Node) api.Graph { return api.Graph{Nodes: nodes} }

// grower builds random graphs.
type grower struct {
	random *rand.Rand
	size   int
	nodes  []api.Node
	// values are the nodes that do not belong to keys.
	values []int
}

// validGraph returns a random valid graph of about size nodes, often with shared nodes and cycles.
func validGraph(random *rand.Rand, size int) api.Graph {
	for {
		g := grower{random: random, size: 1 + random.Intn(size)}
		g.grow()
		if v := shuffled(random, api.Graph{Nodes: g.nodes}); graph.Check(v) == api.OK {
			return v
		}
	}
}

// grow adds a node and those that it reaches, and returns its index.
func (g *grower) grow() int {
	if len(g.values) > 0 && g.random.Intn(3) == 0 {
		return g.values[g.random.Intn(len(g.values))]
	}
	at := len(g.nodes)
	g.nodes = append(g.nodes, api.Node{})
	g.values = append(g.values, at)
	n := []api.Node{integer("1"), text("a"), list(), inOrder(entries())}[g.random.Intn(4)]
	if len(g.nodes) < g.size {
		n = g.container()
	}
	g.nodes[at] = n
	return at
}

// container returns a list, a map or a tag.
func (g *grower) container() api.Node {
	switch g.random.Intn(4) {
	case 0:
		return tag("t", g.grow())
	case 1:
		n := list()
		for range 1 + g.random.Intn(3) {
			n.Items = append(n.Items, g.grow())
		}
		return n
	}
	n := api.Node{Kind: api.Map, Ordered: g.random.Intn(2) == 0}
	for _, key := range g.random.Perm(6)[:1+g.random.Intn(4)] {
		n.Keys = append(n.Keys, g.key(key))
		n.Items = append(n.Items, g.grow())
	}
	return n
}

// key adds the nodes of a key, and returns its index.
func (g *grower) key(number int) int {
	at := len(g.nodes)
	g.nodes = append(g.nodes, [6][]api.Node{
		{text("a")},
		{text("b c")},
		{integer("10")},
		{integer("9")},
		{list(at+1, at+2), integer("1"), integer("1")},
		{entries(at+1, at+2, at+3, at+4), text("}"), list(), text("a"), list()},
	}[number]...)
	return at
}

// shuffled returns the graph with its nodes in another order, and the entries of unordered maps too.
func shuffled(random *rand.Rand, g api.Graph) api.Graph {
	order := random.Perm(len(g.Nodes))
	s := api.Graph{Nodes: make([]api.Node, len(g.Nodes)), Root: order[g.Root]}
	for i, n := range clone(g).Nodes {
		for _, references := range [][]int{n.Keys, n.Items} {
			for j, r := range references {
				references[j] = order[r]
			}
		}
		if n.Kind == api.Map && !n.Ordered {
			random.Shuffle(len(n.Keys), func(a, b int) {
				n.Keys[a], n.Keys[b] = n.Keys[b], n.Keys[a]
				n.Items[a], n.Items[b] = n.Items[b], n.Items[a]
			})
		}
		s.Nodes[order[i]] = n
	}
	return s
}
