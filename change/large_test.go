package change_test

import (
	"fmt"
	"math/rand"
	"slices"
	"strings"
	"testing"

	"rosetta/api"
	"rosetta/change"
	"rosetta/path"
)

func TestLongPaths(t *testing.T) { // P15.1, P15.2: a path in a cycle can have any length, and each of its steps takes a copy
	loop := rooted(list(0))
	ring := rooted(entries(2, 1), list(0), text("k"))
	one := parsed(t, "1")
	for _, row := range []struct {
		length                       int
		set, insert, remove, ringSet api.Errno
	}{
		{30, api.OK, api.OK, api.OK, api.OK},
		{32, api.OK, api.OK, api.OK, api.OK},
		{33, api.ErrDeep, api.ErrDeep, api.OK, api.ErrDeep},
		{34, api.ErrDeep, api.ErrDeep, api.ErrDeep, api.ErrDeep},
		{2730, api.ErrDeep, api.ErrDeep, api.ErrDeep, api.ErrDeep},
		{2732, api.ErrDeep, api.ErrDeep, api.ErrDeep, api.ErrMany},
		{4094, api.ErrDeep, api.ErrDeep, api.ErrDeep, api.ErrMany},
		{4095, api.ErrDeep, api.ErrMany, api.ErrDeep, api.ErrMany},
		{4096, api.ErrMany, api.ErrMany, api.ErrDeep, api.ErrMany},
		{4097, api.ErrMany, api.ErrMany, api.ErrMany, api.ErrMany},
		{1000000, api.ErrMany, api.ErrMany, api.ErrMany, api.ErrMany},
	} {
		p := slices.Repeat(api.Path{item(0)}, row.length)
		both := slices.Repeat(api.Path{value(`"k"`), item(0)}, row.length/2+1)[:row.length]
		for _, x := range []struct {
			g    api.Graph
			c    api.Change
			want api.Errno
		}{{loop, set(p, one), row.set}, {loop, insert(p, one), row.insert}, {loop, remove(p), row.remove}, {ring, set(both, one), row.ringSet}} {
			_, e := change.Apply(x.g, x.c)
			_, f := change.Invert(x.g, x.c)
			if g := change.Check(x.g, x.c); e != x.want || f != x.want || g != x.want {
				t.Errorf("a path of %d steps, Op %d: %d, %d, %d; want %d", row.length, x.c.Op, e, f, g, x.want)
			}
			if row.length < 40 {
				wantChange(t, x.g, x.c)
			}
		}
		// What the path does not select comes before what the result would be.
		astray := set(append(slices.Clone(p), item(1)), one)
		if e := change.Check(loop, astray); e != api.ErrNone {
			t.Errorf("a path of %d steps to nothing: %d", row.length, e)
		}
	}
}

func TestLongestPath(t *testing.T) { // P15.1: the longest path with which a result is not too deep needs all items of each of the copies
	g := rooted(list(1), list(0, 2), integer("7"))
	p := slices.Repeat(api.Path{item(0)}, api.MaxDepth+1)
	result, ok := wantChange(t, g, remove(p))
	if !ok || len(result.Nodes) != api.MaxDepth+2 || !slices.Equal(result.Nodes[1].Items, []int{2, api.MaxDepth + 1}) {
		t.Errorf("Remove: %s", show(result))
	}
}

func TestLongPathsInRandomValues(t *testing.T) { // P15.1: a result that is too deep has another error if it has too many nodes
	random := rand.New(rand.NewSource(4))
	for tested := 0; tested < 120; {
		g := validGraph(random, 25, false)
		c := longChange(random, g)
		if len(c.Path) <= api.MaxDepth+2 || c.Op == api.Remove || refuse(cellOf(g), c) != api.OK {
			continue
		}
		tested++
		size := len(graphOf(along(cellOf(g), c.Path, c)).Nodes) - len(c.Value.Nodes)
		for most, want := range map[int]api.Errno{api.MaxNodes - 1: api.ErrDeep, api.MaxNodes: api.ErrDeep, api.MaxNodes + 1: api.ErrMany} {
			c.Value = wide(most - size)
			if e := change.Check(g, c); e != want {
				t.Fatalf("Check(%s, %d at %v with %d nodes) = %d; want %d", show(g), c.Op, c.Path, most-size, e, want)
			}
		}
	}
}

// longChange returns a change with a path that goes on as long as it can, but has at most 200 steps.
func longChange(random *rand.Rand, g api.Graph) api.Change {
	var p api.Path
	node := g.Root
	for len(p) < 35+random.Intn(165) {
		p = append(p, randomStep(random, g, node))
		next, e := path.Find(g, p)
		if e != api.OK && len(p) < 36 {
			p = p[:len(p)-1]
			if random.Intn(20) == 0 {
				break
			}
			continue
		}
		if e != api.OK {
			break
		}
		node = next
	}
	return api.Change{Op: 1 + random.Intn(3), Path: p, Value: wide(1)}
}

func TestManyItemsOnLongPaths(t *testing.T) { // P15.1: lists with more items than a graph has nodes
	g := rooted(list(slices.Repeat([]int{0, 1}, 100000)...), integer("1"))
	var p api.Path
	for i := range 3000 {
		p = append(p, item(2*i))
	}
	for length, want := range map[int]api.Errno{1: api.OK, 31: api.OK, 32: api.ErrDeep, 3000: api.ErrDeep} {
		if e := change.Check(g, set(p[:length], wide(1))); e != want {
			t.Errorf("a path of %d steps: %d; want %d", length, e, want)
		}
	}
	// The result has the 3000 copies, both nodes and the value.
	for size, want := range map[int]api.Errno{1094: api.ErrDeep, 1095: api.ErrMany} {
		if e := change.Check(g, set(p, wide(size))); e != want {
			t.Errorf("a value of %d nodes: %d; want %d", size, e, want)
		}
	}
	result, e := change.Apply(g, remove(p[:2]))
	if e != api.OK || len(result.Nodes) != 4 || len(result.Nodes[0].Items) != 200000 || len(result.Nodes[1].Items) != 199999 {
		t.Errorf("Remove: %d nodes, %d", len(result.Nodes), e)
	}
}

func TestLongKeys(t *testing.T) { // P15.1, P15.2: a key text in a step has no limit
	long := strings.Repeat(`"`, api.MaxSource)
	key := `"` + strings.Repeat(`\"`, api.MaxSource) + `"`
	other := key[:len(key)-1] + `a"`
	g := rooted(inOrder(entries(1, 2)), text(long), list())
	one := parsed(t, "1")
	for _, row := range []struct {
		c, inverse api.Change
		want       api.Graph
	}{
		{set(api.Path{value(key)}, one), set(api.Path{value(key)}, parsed(t, "[]")), rooted(inOrder(entries(1, 2)), text(long), integer("1"))},
		{remove(api.Path{value(key)}), insert(api.Path{value(key)}, parsed(t, "[]")), rooted(inOrder(entries()))},
		{insert(api.Path{{Index: 1, Key: other}}, one), remove(api.Path{value(other)}), rooted(inOrder(entries(1, 2, 3, 4)), text(long), list(), text(long+"a"), integer("1"))},
		{insert(api.Path{value(key), item(0)}, one), remove(api.Path{value(key), item(0)}), rooted(inOrder(entries(1, 2)), text(long), list(3), integer("1"))},
	} {
		got, e := change.Apply(g, row.c)
		if e != api.OK || !identical(got, row.want) {
			t.Errorf("Op %d: %s, %d", row.c.Op, show(got), e)
		}
		inverse, e := change.Invert(g, row.c)
		if e != api.OK || !identicalChanges(inverse, row.inverse) {
			t.Errorf("inverse of Op %d: Op %d, %d", row.c.Op, inverse.Op, e)
		}
	}
	for _, row := range []struct {
		c api.Change
		e api.Errno
	}{
		{insert(api.Path{value(key)}, one), api.ErrTwice},
		{insert(api.Path{value(key[1:])}, one), api.ErrKey},
		{insert(api.Path{{Index: 2, Key: other}}, one), api.ErrRange},
		{remove(api.Path{value(other)}), api.ErrNone},
		{set(api.Path{value(other)}, one), api.ErrNone},
	} {
		if e := change.Check(g, row.c); e != row.e {
			t.Errorf("Op %d: %d; want %d", row.c.Op, e, row.e)
		}
	}
}

// roomy returns a copy of a graph of which all slices have spare capacity, and a function that reports whether they still have all their elements, the spare ones among them.
func roomy(g api.Graph) (api.Graph, func() bool) {
	r := api.Graph{Root: g.Root, Nodes: make([]api.Node, len(g.Nodes), len(g.Nodes)+3)}
	for i, n := range g.Nodes {
		n.Keys = append(make([]int, 0, len(n.Keys)+2), n.Keys...)
		n.Items = append(make([]int, 0, len(n.Items)+2), n.Items...)
		r.Nodes[i] = n
	}
	state := func() string {
		s := fmt.Sprint(r.Nodes[:cap(r.Nodes)])
		for _, n := range r.Nodes {
			s += fmt.Sprint(n.Keys[:cap(n.Keys)], n.Items[:cap(n.Items)])
		}
		return s
	}
	before := state()
	return r, func() bool { return state() == before }
}

func TestMemory(t *testing.T) { // P15.1, P15.2: arguments are not modified, and results share no memory with them
	random := rand.New(rand.NewSource(5))
	for range 4000 {
		g, sameGraph := roomy(validGraph(random, 12, random.Intn(2) == 0))
		c := randomChange(random, g)
		sameValue := func() bool { return true }
		if c.Op != api.Remove {
			c.Value, sameValue = roomy(c.Value)
		}
		p := append(append(make(api.Path, 0, len(c.Path)+2), c.Path...), item(9))
		c.Path = p[:len(c.Path)]
		before := slices.Clone(p)
		first, e := change.Apply(g, c)
		second, _ := change.Apply(g, c, set(nil, c.Value))
		inverse, _ := change.Invert(g, c)
		none, _ := change.Apply(g)
		change.Check(g, c)
		back, _ := change.Apply(g, c, inverse)
		for _, result := range []api.Graph{first, second, inverse.Value, none, back} {
			wantOwnSlices(t, result)
			spoil(result)
		}
		for i := range inverse.Path {
			inverse.Path[i] = api.Step{Index: -5, Key: "-"}
		}
		if !sameGraph() || !sameValue() || !slices.Equal(before, p) {
			t.Fatalf("%s at %s has been changed; %d", describe(c), show(g), e)
		}
	}
}

// wantOwnSlices checks that no two slices of a graph share memory.
func wantOwnSlices(t *testing.T, g api.Graph) {
	t.Helper()
	seen := map[*int]bool{}
	for _, n := range g.Nodes {
		for _, references := range [][]int{n.Keys, n.Items} {
			references = references[:cap(references)]
			for i := range references {
				if seen[&references[i]] {
					t.Fatalf("two slices of %s share memory", show(g))
				}
				seen[&references[i]] = true
			}
		}
	}
}

func TestManyChanges(t *testing.T) { // P15.1: long sequences of changes of large values
	g := parsed(t, "[]")
	var l []api.Change
	for i := range 1500 {
		l = append(l, insert(api.Path{item(i / 2)}, parsed(t, fmt.Sprint(i))))
	}
	for i := range 1500 {
		l = append(l, set(api.Path{item(i)}, parsed(t, "{}")))
	}
	for range 1000 {
		l = append(l, remove(api.Path{item(500)}))
	}
	want := rooted(list())
	for i := range 500 {
		want.Nodes[0].Items = append(want.Nodes[0].Items, i+1)
		want.Nodes = append(want.Nodes, entries())
	}
	if got, e := change.Apply(g, l...); e != api.OK || !identical(got, want) {
		t.Errorf("Apply: %d nodes, %d", len(got.Nodes), e)
	}
}
