package change_test

import (
	"fmt"
	"math/rand"
	"slices"
	"strings"
	"testing"

	"rosetta/api"
	"rosetta/canon"
	"rosetta/graph"
)

// The reference performs changes on cells, which contain one another, so that a copy of a node is another cell.

// cell is a node of a value.
type cell struct {
	kind        int
	text        string
	ordered     bool
	keys, items []*cell
}

// cellOf returns the root of a valid value.
func cellOf(g api.Graph) *cell {
	cells := make([]*cell, len(g.Nodes))
	for i, n := range g.Nodes {
		cells[i] = &cell{kind: n.Kind, text: n.Text, ordered: n.Ordered}
	}
	for i, n := range g.Nodes {
		for _, key := range n.Keys {
			cells[i].keys = append(cells[i].keys, cells[key])
		}
		for _, item := range n.Items {
			cells[i].items = append(cells[i].items, cells[item])
		}
	}
	return cells[g.Root]
}

// graphOf returns the value of a cell, with its nodes in some order.
func graphOf(root *cell) api.Graph {
	number := map[*cell]int{}
	var cells []*cell
	reach := func(c *cell) int {
		if _, ok := number[c]; !ok {
			number[c] = len(cells)
			cells = append(cells, c)
		}
		return number[c]
	}
	reach(root)
	var g api.Graph
	for i := 0; i < len(cells); i++ {
		n := api.Node{Kind: cells[i].kind, Text: cells[i].text, Ordered: cells[i].ordered}
		for _, item := range cells[i].items {
			n.Items = append(n.Items, reach(item))
		}
		for _, key := range cells[i].keys {
			n.Keys = append(n.Keys, reach(key))
		}
		g.Nodes = append(g.Nodes, n)
	}
	return g
}

// keyOf returns the key text of a cell, which no test lets be too long.
func keyOf(c *cell) string {
	s, e := canon.Key(graphOf(c))
	if e != api.OK {
		panic(e)
	}
	return s
}

// selected returns the position of the item that a step selects, or -1.
func (c *cell) selected(step api.Step) int {
	for i := range c.items {
		switch {
		case step.Key != "" && c.kind == api.Map && keyOf(c.keys[i]) == step.Key:
			return i
		case step.Key == "" && c.kind == api.List && step.Index == i:
			return i
		case step.Key == "" && c.kind == api.Tag && step.Index == 0:
			return i
		}
	}
	return -1
}

// follow returns the cell to which a path leads, or nil.
func (c *cell) follow(p api.Path) *cell {
	for _, step := range p {
		at := c.selected(step)
		if at < 0 {
			return nil
		}
		c = c.items[at]
	}
	return c
}

// copied returns another cell with the same items, and with copies of the keys.
func (c *cell) copied() *cell {
	other := &cell{kind: c.kind, text: c.text, ordered: c.ordered, items: slices.Clone(c.items)}
	for _, key := range c.keys {
		other.keys = append(other.keys, key.unfolded())
	}
	return other
}

// unfolded returns a tree of other cells.
func (c *cell) unfolded() *cell {
	other := c.copied()
	for i, item := range other.items {
		other.items[i] = item.unfolded()
	}
	return other
}

// refuse returns the error of a change of a valid value that its form and its path have.
func refuse(root *cell, c api.Change) api.Errno {
	switch {
	case c.Op != api.Set && c.Op != api.Insert && c.Op != api.Remove:
		return api.ErrArg
	case c.Op != api.Set && len(c.Path) == 0:
		return api.ErrArg
	case c.Op == api.Remove && !identical(c.Value, api.Graph{}):
		return api.ErrArg
	case c.Op != api.Remove && graph.Check(c.Value) != api.OK:
		return api.ErrForm
	case c.Op == api.Set && root.follow(c.Path) == nil:
		return api.ErrNone
	case c.Op == api.Set:
		return api.OK
	}
	last := c.Path[len(c.Path)-1]
	box := root.follow(c.Path[:len(c.Path)-1])
	switch {
	case box == nil:
		return api.ErrNone
	case last.Key != "" && box.kind != api.Map:
		return api.ErrKind
	case last.Key == "" && box.kind != api.List:
		return api.ErrKind
	case c.Op == api.Remove && box.selected(last) < 0:
		return api.ErrNone
	case c.Op == api.Remove:
		return api.OK
	}
	inside := last.Index >= 0 && last.Index <= len(box.items)
	if last.Key == "" {
		return unless(inside, api.ErrRange)
	}
	if _, e := canon.ParseKey(last.Key); e != api.OK {
		return api.ErrKey
	}
	switch {
	case box.selected(last) >= 0:
		return api.ErrTwice
	case box.ordered:
		return unless(inside, api.ErrRange)
	}
	return unless(last.Index == 0, api.ErrArg)
}

// unless returns OK if a condition holds, and otherwise an error.
func unless(ok bool, e api.Errno) api.Errno {
	if ok {
		return api.OK
	}
	return e
}

// along returns the copy of a cell in which a change is performed below a path.
func along(c *cell, p api.Path, change api.Change) *cell {
	if len(p) == 0 {
		return cellOf(change.Value)
	}
	step := p[0]
	other := c.copied()
	at := c.selected(step)
	switch {
	case len(p) > 1 || change.Op == api.Set:
		other.items[at] = along(c.items[at], p[1:], change)
	case change.Op == api.Remove:
		other.items = slices.Delete(other.items, at, at+1)
		if c.kind == api.Map {
			other.keys = slices.Delete(other.keys, at, at+1)
		}
	case c.kind == api.Map:
		key, _ := canon.ParseKey(step.Key)
		other.keys = slices.Insert(other.keys, step.Index, cellOf(key))
		other.items = slices.Insert(other.items, step.Index, cellOf(change.Value))
	default:
		other.items = slices.Insert(other.items, step.Index, cellOf(change.Value))
	}
	return other
}

// result is what Apply must return.
type result struct {
	g api.Graph
	e api.Errno
}

// referenceApply follows the definitions.
func referenceApply(g api.Graph, l ...api.Change) result {
	if graph.Check(g) != api.OK {
		return result{e: api.ErrForm}
	}
	for _, c := range l {
		root := cellOf(g)
		if e := refuse(root, c); e != api.OK {
			return result{e: e}
		}
		g = graphOf(along(root, c.Path, c))
		if e := graph.Check(g); e != api.OK {
			return result{e: e}
		}
	}
	normal, _ := canon.Normal(g)
	return result{g: normal}
}

// referenceInverse returns the inverse of a change that can be performed.
func referenceInverse(g api.Graph, c api.Change) api.Change {
	root := cellOf(g)
	inverse := api.Change{Op: api.Set, Path: slices.Clone(c.Path)}
	if c.Op != api.Insert {
		inverse.Value, _ = canon.Normal(graphOf(root.follow(c.Path)))
	}
	if c.Op == api.Set {
		return inverse
	}
	inverse.Op = api.Insert + api.Remove - c.Op
	last := &inverse.Path[len(c.Path)-1]
	box := root.follow(c.Path[:len(c.Path)-1])
	switch {
	case last.Key == "":
	case c.Op == api.Remove && box.ordered:
		last.Index = box.selected(*last)
	default:
		last.Index = 0
	}
	return inverse
}

// referenceTouches tries out which of the three conditions holds.
func referenceTouches(a, b api.Change) bool {
	agree := func(x, y api.Step) bool {
		return x.Key == y.Key && x.Key != "" || x.Key == "" && y.Key == "" && x.Index == y.Index
	}
	for i := 0; ; i++ {
		if i == len(a.Path) || i == len(b.Path) {
			return true
		}
		x, y := a.Path[i], b.Path[i]
		if agree(x, y) {
			continue
		}
		endA, endB := len(a.Path) == i+1, len(b.Path) == i+1
		movesA, movesB := a.Op == api.Insert || a.Op == api.Remove, b.Op == api.Insert || b.Op == api.Remove
		if x.Key == "" && y.Key == "" && (endA && movesA || endB && movesB) {
			return true
		}
		return x.Key != "" && y.Key != "" && endA && endB && movesA && movesB && (a.Op == api.Insert || b.Op == api.Insert)
	}
}

// describe writes a change.
func describe(c api.Change) string {
	return fmt.Sprintf("{%d %v %s}", c.Op, c.Path, show(c.Value))
}

// identicalChanges reports whether two changes have the same fields.
func identicalChanges(a, b api.Change) bool {
	return a.Op == b.Op && slices.Equal(a.Path, b.Path) && identical(a.Value, b.Value)
}

// show writes a graph in full.
func show(g api.Graph) string {
	var text strings.Builder
	fmt.Fprintf(&text, "root %d:", g.Root)
	for i, n := range g.Nodes {
		if i == 40 {
			fmt.Fprintf(&text, " .. (%d nodes)", len(g.Nodes))
			break
		}
		fmt.Fprintf(&text, " %d(%d %.20q", i, n.Kind, n.Text)
		if n.Ordered {
			text.WriteString(" ordered")
		}
		fmt.Fprintf(&text, " %v %v)", n.Keys[:min(len(n.Keys), 20)], n.Items[:min(len(n.Items), 20)])
	}
	return text.String()
}

// identical reports whether two graphs have the same fields; nil and empty slices are the same.
func identical(a, b api.Graph) bool {
	return a.Root == b.Root && slices.EqualFunc(a.Nodes, b.Nodes, func(x, y api.Node) bool {
		return x.Kind == y.Kind && x.Text == y.Text && x.Ordered == y.Ordered && slices.Equal(x.Keys, y.Keys) && slices.Equal(x.Items, y.Items)
	})
}

// clone returns a copy of a graph.
func clone(g api.Graph) api.Graph {
	c := api.Graph{Root: g.Root}
	for _, n := range g.Nodes {
		n.Keys, n.Items = slices.Clone(n.Keys), slices.Clone(n.Items)
		c.Nodes = append(c.Nodes, n)
	}
	return c
}

// spoil overwrites the memory of a graph, with its spare capacity.
func spoil(g api.Graph) {
	for i, n := range g.Nodes {
		for _, references := range [][]int{n.Keys, n.Items} {
			references = references[:cap(references)]
			for j := range references {
				references[j] = -1
			}
		}
		g.Nodes[i] = api.Node{Kind: -1}
	}
}

// parsed returns the tree with a key text.
func parsed(t *testing.T, s string) api.Graph {
	t.Helper()
	g, e := canon.ParseKey(s)
	if e != api.OK {
		t.Fatalf("ParseKey(%.100q): error %d", s, e)
	}
	return g
}

// The nodes of which the tests' graphs consist.

func text(s string) api.Node          { return api.Node{Kind: api.Text, Text: s} }
func integer(s string) api.Node       { return api.Node{Kind: api.Int, Text: s} }
func list(items ...int) api.Node      { return api.Node{Kind: api.List, Items: items} }
func tag(name string, i int) api.Node { return api.Node{Kind: api.Tag, Text: name, Items: []int{i}} }

// entries returns an unordered map; keys and values alternate.
func entries(references ...int) api.Node {
	n := api.Node{Kind: api.Map}
	for i := 0; i < len(references); i += 2 {
		n.Keys = append(n.Keys, references[i])
		n.Items = append(n.Items, references[i+1])
	}
	return n
}

// inOrder returns the ordered map.
func inOrder(n api.Node) api.Node {
	n.Ordered = true
	return n
}

// rooted returns the graph with the root 0.
func rooted(nodes ...api.Node) api.Graph { return api.Graph{Nodes: nodes} }

// grower builds random graphs.
type grower struct {
	random  *rand.Rand
	size    int
	acyclic bool
	nodes   []api.Node
	// values are the nodes that do not belong to keys and can be referenced.
	values []int
}

// validGraph returns a random valid graph of about size nodes, of few kinds, often with shared nodes, and often with cycles unless it has to be acyclic.
func validGraph(random *rand.Rand, size int, acyclic bool) api.Graph {
	for {
		g := grower{random: random, size: 1 + random.Intn(size), acyclic: acyclic}
		g.grow()
		if v := shuffled(random, api.Graph{Nodes: g.nodes}); graph.Check(v) == api.OK {
			return v
		}
	}
}

// grow adds a node and those that it reaches, and returns its index.
func (g *grower) grow() int {
	if len(g.values) > 0 && g.random.Intn(3) == 0 {
		return g.values[g.random.Intn(len(g.values))]
	}
	at := len(g.nodes)
	g.nodes = append(g.nodes, api.Node{})
	if !g.acyclic {
		g.values = append(g.values, at)
	}
	n := []api.Node{integer("1"), integer("2"), text("1"), list()}[g.random.Intn(4)]
	if len(g.nodes) < g.size {
		n = g.container()
	}
	g.nodes[at] = n
	if g.acyclic {
		g.values = append(g.values, at)
	}
	return at
}

// container returns a list, a map or a tag.
func (g *grower) container() api.Node {
	switch g.random.Intn(4) {
	case 0:
		return tag([]string{"t", "u"}[g.random.Intn(8)/7], g.grow())
	case 1, 2:
		n := list()
		for range 1 + g.random.Intn(3) {
			n.Items = append(n.Items, g.grow())
		}
		return n
	}
	n := api.Node{Kind: api.Map, Ordered: g.random.Intn(2) == 0}
	for _, key := range g.random.Perm(4)[:1+g.random.Intn(3)] {
		n.Keys = append(n.Keys, g.key(key))
		n.Items = append(n.Items, g.grow())
	}
	return n
}

// key adds the nodes of a key of which the parts are equal or in no order, and returns its index.
func (g *grower) key(number int) int {
	at := len(g.nodes)
	g.nodes = append(g.nodes, [4][]api.Node{
		{integer("10")},
		{integer("9")},
		{list(at+1, at+2), integer("1"), integer("1")},
		{entries(at+1, at+2, at+3, at+4), text("b"), list(), text("a"), list()},
	}[number]...)
	return at
}

// shuffled returns the graph with its nodes in another order, and the entries of unordered maps too.
func shuffled(random *rand.Rand, g api.Graph) api.Graph {
	order := random.Perm(len(g.Nodes))
	s := api.Graph{Nodes: make([]api.Node, len(g.Nodes)), Root: order[g.Root]}
	for i, n := range clone(g).Nodes {
		for _, references := range [][]int{n.Keys, n.Items} {
			for j, r := range references {
				references[j] = order[r]
			}
		}
		if n.Kind == api.Map && !n.Ordered {
			random.Shuffle(len(n.Keys), func(a, b int) {
				n.Keys[a], n.Keys[b] = n.Keys[b], n.Keys[a]
				n.Items[a], n.Items[b] = n.Items[b], n.Items[a]
			})
		}
		s.Nodes[order[i]] = n
	}
	return s
}

// smallGraphs returns all valid graphs of up to three nodes of some kinds.
func smallGraphs() []api.Graph {
	var all []api.Graph
	for size := 1; size <= 3; size++ {
		choices := []api.Node{integer("1"), integer("2"), list()}
		for i := range size {
			choices = append(choices, list(i), tag("t", i))
			for j := range size {
				choices = append(choices, list(i, j), entries(i, j), inOrder(entries(i, j)))
				for k := range size {
					choices = append(choices, entries(i, k, j, k), inOrder(entries(i, k, j, k)))
				}
			}
		}
		nodes := make([]api.Node, size)
		var choose func(at int)
		choose = func(at int) {
			if at < size {
				for _, n := range choices {
					nodes[at] = n
					choose(at + 1)
				}
				return
			}
			for root := range size {
				if g := (api.Graph{Nodes: nodes, Root: root}); graph.Check(g) == api.OK {
					all = append(all, clone(g))
				}
			}
		}
		choose(0)
	}
	return all
}
