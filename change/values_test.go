package change_test

import (
	"math/rand"
	"testing"

	"rosetta/api"
	"rosetta/canon"
	"rosetta/change"
	"rosetta/equal"
	"rosetta/graph"
	"rosetta/path"
)

// changesOf returns the changes with every Op and a Value at each of some paths.
func changesOf(paths []api.Path, v api.Graph) []api.Change {
	var all []api.Change
	for _, p := range paths {
		all = append(all, set(p, v), insert(p, v), remove(p))
	}
	return all
}

func TestSmallValues(t *testing.T) { // P15.1, P15.2, P15.4: all graphs of up to three nodes of some kinds, and changes at short paths
	steps := []api.Step{item(0), item(1), item(2), value("1"), value("[]"), {Index: 1, Key: "2"}, value("01")}
	short, long := changesOf(pathsOf(steps, 1), parsed(t, "[1]")), changesOf(pathsOf(steps, 3), parsed(t, "[1]"))
	performed := 0
	for i, g := range smallGraphs() {
		changes := short
		if i%67 == 0 {
			changes = long
		}
		for _, c := range changes {
			if _, ok := wantChange(t, g, c); ok {
				performed++
			}
		}
	}
	if performed < 20000 {
		t.Errorf("only %d changes were performed", performed)
	}
}

// randomStep returns a step that leads from a node, or one that perhaps does not.
func randomStep(random *rand.Rand, g api.Graph, node int) api.Step {
	n := g.Nodes[node]
	if len(n.Items) == 0 || random.Intn(6) == 0 {
		keys := []string{"", "", "", "9", "10", "[1,1]", `{"a"=[],"b"=[]}`, "null"}
		return api.Step{Index: random.Intn(3), Key: keys[random.Intn(len(keys))]}
	}
	at := random.Intn(len(n.Items))
	if n.Kind != api.Map {
		return item(at)
	}
	key, _ := graph.Sub(g, n.Keys[at])
	s, _ := canon.Key(key)
	return api.Step{Index: random.Intn(3) / 2, Key: s}
}

// randomPath returns a path that leads to a node, but perhaps for its last step.
func randomPath(random *rand.Rand, g api.Graph) api.Path {
	var p api.Path
	node := g.Root
	for random.Intn(4) > 0 {
		p = append(p, randomStep(random, g, node))
		next, e := path.Find(g, p)
		if e != api.OK {
			break
		}
		node = next
	}
	return p
}

// randomChange returns a change that can perhaps be performed.
func randomChange(random *rand.Rand, g api.Graph) api.Change {
	c := api.Change{Op: 1 + random.Intn(3), Path: randomPath(random, g)}
	if c.Op != api.Remove {
		c.Value = validGraph(random, 4, random.Intn(2) == 0)
	}
	return c
}

func TestRandomValues(t *testing.T) { // P15.1, P15.2, P15.4
	random := rand.New(rand.NewSource(1))
	performed := [4]int{}
	for i := range 3000 {
		g := validGraph(random, 25, i%2 == 0)
		for range 10 {
			c := randomChange(random, g)
			result, ok := wantChange(t, g, c)
			if !ok {
				continue
			}
			performed[c.Op]++
			if c.Op == api.Set {
				wantSet(t, g, c, result)
			}
		}
	}
	for op, least := range []int{0, 4000, 1500, 1500} {
		if performed[op] < least {
			t.Errorf("only %d changes with the Op %d were performed", performed[op], op)
		}
	}
}

// wantSet checks that the path of a Set leads to its Value.
func wantSet(t *testing.T, g api.Graph, c api.Change, result api.Graph) {
	t.Helper()
	node, e := path.Find(result, c.Path)
	if e != api.OK {
		t.Fatalf("Find after %s of %s: %d", describe(c), show(g), e)
	}
	if v, _ := graph.Sub(result, node); !equal.Equal(v, c.Value) {
		t.Fatalf("%s of %s leads to %s", describe(c), show(g), show(v))
	}
}

func TestRandomSequences(t *testing.T) { // P15.1
	random := rand.New(rand.NewSource(2))
	complete := 0
	for i := range 3000 {
		g := validGraph(random, 15, i%2 == 0)
		var l []api.Change
		for last := g; len(l) < 6; {
			c := randomChange(random, last)
			r := referenceApply(last, c)
			if r.e != api.OK && random.Intn(20) > 0 {
				continue
			}
			l = append(l, c)
			if r.e != api.OK {
				break
			}
			last = r.g
		}
		want := referenceApply(g, l...)
		got, e := change.Apply(g, l...)
		if e != want.e || !identical(got, want.g) {
			t.Fatalf("Apply(%s, %v) = %s, %d; want %s, %d", show(g), l, show(got), e, show(want.g), want.e)
		}
		if e == api.OK {
			complete++
		}
	}
	if complete < 1000 {
		t.Errorf("only %d sequences were complete", complete)
	}
}

func TestChangesThatDoNotTouch(t *testing.T) { // P15.4: they have the same result in either order, and leave what the other one concerns
	random := rand.New(rand.NewSource(3))
	pairs, paths := 0, 0
	for i := range 40000 {
		g := validGraph(random, 20, i%2 == 0)
		a, b := randomChange(random, g), randomChange(random, g)
		if change.Check(g, a) != api.OK || change.Check(g, b) != api.OK {
			continue
		}
		after, _ := change.Apply(g, a)
		p := randomPath(random, g)
		if before, e := path.Find(g, p); e == api.OK && !change.Touches(a, set(p, g)) {
			paths++
			node, e := path.Find(after, p)
			if e != api.OK || !equalNodes(g, before, after, node) {
				t.Fatalf("%s of %s changes what %v leads to", describe(a), show(g), p)
			}
		}
		if change.Touches(a, b) {
			continue
		}
		pairs++
		first, e := change.Apply(g, a, b)
		second, f := change.Apply(g, b, a)
		if e != api.OK || f != api.OK || !identical(first, second) {
			t.Fatalf("%s and %s of %s: %s, %d or %s, %d", describe(a), describe(b), show(g), show(first), e, show(second), f)
		}
	}
	if pairs < 400 || paths < 200 {
		t.Errorf("only %d pairs and %d paths", pairs, paths)
	}
}

// equalNodes reports whether nodes of two graphs have equal values.
func equalNodes(g api.Graph, node int, h api.Graph, other int) bool {
	x, _ := graph.Sub(g, node)
	y, _ := graph.Sub(h, other)
	return equal.Equal(x, y)
}

func TestSmallChangesThatDoNotTouch(t *testing.T) { // P15.4: all pairs of changes at short paths of some values
	steps := []api.Step{item(0), item(1), value("1"), value("2"), {Index: 1, Key: "2"}}
	paths := pathsOf(steps, 2)
	for _, g := range []api.Graph{
		parsed(t, "[[1,2],3]"), parsed(t, "{1=[7],2={3=4}}"), parsed(t, "<1=<1=2>,3=4>"), parsed(t, "!t([1,{1=1}])"),
		rooted(list(1, 1), list(2, 3), integer("1"), integer("2")),
		rooted(list(0, 1), list(0, 1)),
		rooted(entries(1, 0, 2, 3), integer("1"), integer("2"), list(0)),
	} {
		changes := append(changesOf(paths, parsed(t, "[5]")), changesOf(paths, parsed(t, "{1=1}"))...)
		for _, a := range changes {
			if change.Check(g, a) != api.OK {
				continue
			}
			for _, b := range changes {
				if change.Touches(a, b) || change.Check(g, b) != api.OK {
					continue
				}
				first, e := change.Apply(g, a, b)
				second, f := change.Apply(g, b, a)
				if e != api.OK || f != api.OK || !identical(first, second) {
					t.Fatalf("%s and %s of %s: %s, %d or %s, %d", describe(a), describe(b), show(g), show(first), e, show(second), f)
				}
			}
		}
	}
}
