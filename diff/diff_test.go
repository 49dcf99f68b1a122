package diff_test

import (
	"fmt"
	"math/rand"
	"slices"
	"strings"
	"testing"

	"rosetta/api"
	"rosetta/canon"
	"rosetta/change"
	"rosetta/diff"
	"rosetta/path"
)

// wantDiff checks the difference between two trees, and what follows from it.
func wantDiff(t *testing.T, a, b api.Graph) []api.Change {
	t.Helper()
	want := referenceDiff(a, b, nil)
	got, e := diff.Diff(a, b)
	if e != api.OK || !identicalChanges(got, want) {
		t.Fatalf("Diff(%s, %s)\n = %s %d\nwant %s", keyOf(a), keyOf(b), describe(got), e, describe(want))
	}
	n, e := diff.Distance(a, b)
	if e != api.OK || n != len(want) {
		t.Fatalf("Distance(%s, %s) = %d, %d; want %d", keyOf(a), keyOf(b), n, e, len(want))
	}
	if (n == 0) != canon.Same(a, b) || n > 1 && (isScalar(a) || isScalar(b)) {
		t.Fatalf("Distance(%s, %s) = %d", keyOf(a), keyOf(b), n)
	}
	wantApplied(t, a, b, got)
	return got
}

// isScalar reports whether a value is a scalar.
func isScalar(g api.Graph) bool { return g.Nodes[g.Root].Kind < api.List }

// wantApplied checks that changes turn a into b, and that each Set replaces a value by another one, which b has there.
func wantApplied(t *testing.T, a, b api.Graph, l []api.Change) {
	t.Helper()
	for i, c := range l {
		if c.Op == api.Set && (!leadsTo(b, c.Path, c.Value) || leadsTo(a, c.Path, c.Value)) {
			t.Fatalf("change %d of %s: %s", i, keyOf(a), describe(l))
		}
		next, e := change.Apply(a, c)
		if e != api.OK {
			t.Fatalf("Apply(%s, %s): %d", keyOf(a), describe(l[i:]), e)
		}
		a = next
	}
	if !canon.Same(a, b) {
		t.Fatalf("%s instead of %s after %s", keyOf(a), keyOf(b), describe(l))
	}
}

// leadsTo reports whether a path leads to a value in a graph.
func leadsTo(g api.Graph, p api.Path, v api.Graph) bool {
	node, e := path.Find(g, p)
	return e == api.OK && canon.Same(sub(g, node), v)
}

// written returns changes in short form: the paths as texts, and the values as key texts.
func written(l []api.Change) []string {
	var all []string
	for _, c := range l {
		s := []string{"", "set ", "insert ", "remove "}[c.Op] + path.Text(c.Path)
		if c.Op != api.Remove {
			s += " " + keyOf(c.Value)
		}
		all = append(all, s)
	}
	return all
}

func TestExamples(t *testing.T) { // P16.1: the document's examples
	for _, row := range []struct {
		a, b string
		want []string
	}{
		{`{"a"=1,"b"=[1,2,3]}`, `{"b"=[1,3,4],"c"=2}`, []string{"remove .a", "remove .b[1]", "insert .b[2] 4", "insert .c 2"}},
		{"[1,2]", "[3,2,2]", []string{"set [0] 3", "insert [2] 2"}},
		{"[1,2,3]", "[1,3,4]", []string{"remove [1]", "insert [2] 4"}},
	} {
		l := wantDiff(t, parsed(t, row.a), parsed(t, row.b))
		if !slices.Equal(written(l), row.want) {
			t.Errorf("Diff(%s, %s) = %q; want %q", row.a, row.b, written(l), row.want)
		}
	}
}

func TestRules(t *testing.T) { // P16.1
	for _, row := range []struct {
		a, b string
		want []string
	}{
		// 1. Same values.
		{"1", "1", nil},
		{`{"a"=[1,<2=3>]}`, `{"a"=[1,<2=3>]}`, nil},
		{"nan", "nan", nil},
		// 2. Unordered maps.
		{"{}", "{1=2}", []string{"insert {1} 2"}},
		{"{1=2}", "{}", []string{"remove {1}"}},
		{"{1=2}", "{1=3}", []string{"set {1} 3"}},
		{"{9=0,10=0,11=0,100=0}", "{1=0,2=0,10=1,20=0,100=2}", []string{"remove {9}", "remove {11}", "set {10} 1", "set {100} 2", "insert {1} 0", "insert {2} 0", "insert {20} 0"}},
		{"{1=2}", "{1e0=2}", []string{"remove {1}", "insert {1e0} 2"}},
		{`{"a"={"b"={"c"=1,"d"=2}}}`, `{"a"={"b"={"c"=3,"d"=2}}}`, []string{"set .a.b.c 3"}},
		{`{"a"=[1]}`, `{"a"={1=1}}`, []string{"set .a {1=1}"}},
		// 3. Ordered maps.
		{"<>", "<1=2>", []string{"insert {1} 2"}},
		{"<1=2>", "<>", []string{"remove {1}"}},
		{"<9=0,10=0,8=0>", "<7=0,10=1,6=0,5=0>", []string{"remove {9}", "remove {8}", "set {10} 1", "insert {7} 0", "insert {6}@2 0", "insert {5}@3 0"}},
		{"<3=0,2=0,1=0>", "<3=1,2=1,1=1>", []string{"set {3} 1", "set {2} 1", "set {1} 1"}},
		{"<3=0,2=0,1=0>", "<3=1,1=1,2=1>", []string{"set  <3=1,1=1,2=1>"}},
		{"<3=0,2=0,1=0>", "<0=5,3=0,4=5,1=1>", []string{"remove {2}", "set {1} 1", "insert {0} 5", "insert {4}@2 5"}},
		{"<1=0,2=0>", "<3=0,4=0>", []string{"remove {1}", "remove {2}", "insert {3} 0", "insert {4}@1 0"}},
		{"<1=<1=0,2=0>>", "<1=<2=0,1=0>>", []string{"set {1} <2=0,1=0>"}},
		{"<1=0>", "{1=0}", []string{"set  {1=0}"}},
		{"{1=0}", "<1=0>", []string{"set  <1=0>"}},
		{"{}", "<>", []string{"set  <>"}},
		// 4. Lists.
		{"[]", "[1,2]", []string{"insert [0] 1", "insert [1] 2"}},
		{"[1,2]", "[]", []string{"remove [0]", "remove [0]"}},
		{"[1,2,3,4]", "[5,4]", []string{"set [0] 5", "remove [1]", "remove [1]"}},
		{"[5,4]", "[1,2,3,4]", []string{"set [0] 1", "insert [1] 2", "insert [2] 3"}},
		{"[1,2]", "[2,1]", []string{"remove [0]", "insert [1] 1"}},
		{"[1,2,1]", "[2,1,2]", []string{"remove [0]", "insert [2] 2"}},
		{"[1,9,2,9,3]", "[9,9,4]", []string{"remove [0]", "remove [1]", "set [2] 4"}},
		{"[[1,2],[3]]", "[[1,4],[3]]", []string{"set [0][1] 4"}},
		{"[0,[1,2],[3],9]", "[[1],[4,3],9,9]", []string{"set [0] [1]", "set [1][0] 4", "set [1][1] 3", "remove [2]", "insert [3] 9"}},
		{"[{1=2},{1=3}]", "[{1=3}]", []string{"remove [0]"}},
		{"[[]]", "[{}]", []string{"set [0] {}"}},
		// 5. Tags.
		{"!t(1)", "!t(2)", []string{"set [0] 2"}},
		{"!t(!u([1]))", "!t(!u([1,2]))", []string{"insert [0][0][1] 2"}},
		{"!t(1)", "!u(1)", []string{"set  !u(1)"}},
		{"!t(!u(1))", "!t(!v(1))", []string{"set [0] !v(1)"}},
		// 6. Other values.
		{"1", `"1"`, []string{`set  "1"`}},
		{"1", "1e0", []string{"set  1e0"}},
		{"0p0", "-0p0", []string{"set  -0p0"}},
		{"[1]", "1", []string{"set  1"}},
		{"null", "[1]", []string{"set  [1]"}},
		{"!t([1])", "[1]", []string{"set  [1]"}},
		{`#61`, `"a"`, []string{`set  "a"`}},
	} {
		l := wantDiff(t, parsed(t, row.a), parsed(t, row.b))
		if !slices.Equal(written(l), row.want) {
			t.Errorf("Diff(%s, %s) = %q; want %q", row.a, row.b, written(l), row.want)
		}
	}
}

// listOf returns the list of some items, by their letters.
func listOf(t *testing.T, letters string) api.Graph {
	t.Helper()
	items := map[rune]string{'a': "1", 'b': "2", 'c': "[1]", 'd': "[2]", 'e': "{1=1}"}
	var all []string
	for _, letter := range letters {
		all = append(all, items[letter])
	}
	return parsed(t, "["+strings.Join(all, ",")+"]")
}

// words returns all texts of at most that many letters.
func words(letters string, most int) []string {
	all := []string{""}
	for start, length := 0, 0; length < most; length++ {
		end := len(all)
		for _, word := range all[start:end] {
			for _, letter := range letters {
				all = append(all, word+string(letter))
			}
		}
		start = end
	}
	return all
}

func TestShortLists(t *testing.T) { // P16.1, P16.2, P16.3: all pairs of short lists of few items
	for letters, most := range map[string]int{"ab": 5, "abc": 3, "acd": 3, "abcde": 2} {
		var lists []api.Graph
		for _, word := range words(letters, most) {
			lists = append(lists, listOf(t, word))
		}
		for _, a := range lists {
			for _, b := range lists {
				wantDiff(t, a, b)
			}
		}
	}
}

func TestShortMaps(t *testing.T) { // P16.1, P16.2, P16.3: all pairs of maps with up to three of some keys, in all orders
	var maps []api.Graph
	for _, word := range words("abc", 3) {
		var pairs []string
		for i, letter := range word {
			pairs = append(pairs, fmt.Sprintf(`"%c"=%d`, letter, i))
		}
		inside := strings.Join(pairs, ",")
		for _, s := range []string{"{" + inside + "}", "<" + inside + ">"} {
			if g, e := canon.ParseKey(s); e == api.OK {
				maps = append(maps, g)
			}
		}
	}
	if len(maps) != 24 {
		t.Fatalf("%d maps", len(maps))
	}
	for _, a := range maps {
		for _, b := range maps {
			wantDiff(t, a, b)
		}
	}
}

func TestRandomTrees(t *testing.T) { // P16.1, P16.2, P16.3
	random := rand.New(rand.NewSource(1))
	total := 0
	for range 2000 {
		a, b := randomTree(random, 30), randomTree(random, 30)
		total += len(wantDiff(t, a, b))
		wantDiff(t, a, shuffled(random, a))
	}
	if total < 3000 {
		t.Errorf("only %d changes", total)
	}
}

// altered returns a tree with some values set, inserted or removed.
func altered(random *rand.Rand, g api.Graph) api.Graph {
	for range 1 + random.Intn(4) {
		texts := slices.Collect(func(yield func(string) bool) {
			path.All(g)(func(s string, _ int) bool { return yield(s) })
		})
		p, _ := path.Parse(texts[random.Intn(len(texts))])
		c := api.Change{Op: api.Set, Path: p, Value: randomTree(random, 5)}
		switch random.Intn(4) {
		case 0:
			c = api.Change{Op: api.Remove, Path: p}
		case 1:
			c.Op, c.Path = api.Insert, at(p, api.Step{Index: random.Intn(3)})
		case 2:
			c.Op, c.Path = api.Insert, at(p, api.Step{Index: random.Intn(3), Key: "9"})
		}
		if next, e := change.Apply(g, c); e == api.OK {
			g = next
		}
	}
	return g
}

func TestAlteredTrees(t *testing.T) { // P16.1, P16.2, P16.3: trees with much in common
	random := rand.New(rand.NewSource(2))
	total := 0
	for range 2000 {
		a := randomTree(random, 30)
		b := shuffled(random, altered(random, a))
		total += len(wantDiff(t, a, b)) + len(wantDiff(t, b, a))
	}
	if total < 4500 {
		t.Errorf("only %d changes", total)
	}
}

func TestErrors(t *testing.T) { // P16.1
	good := parsed(t, "[1]")
	shared := rooted(list(1, 1), integer("1"))
	loop := rooted(list(0))
	root := rooted(list(1), list(0))
	var bad []api.Graph
	for _, g := range []api.Graph{{}, {Nodes: []api.Node{text("a")}, Root: 1}, rooted(text("\xff")), rooted(list(1)), rooted(text("a"), text("a")), rooted(entries(1, 2, 3, 4), text("a"), list(), text("a"), list())} {
		bad = append(bad, g)
	}
	want := func(a, b api.Graph, want api.Errno) {
		t.Helper()
		l, e := diff.Diff(a, b)
		n, f := diff.Distance(a, b)
		if e != want || f != want || len(l) != 0 || n != 0 {
			t.Errorf("Diff and Distance: %v, %d, %d, %d; want the error %d", l, e, n, f, want)
		}
	}
	for _, g := range bad {
		for _, other := range []api.Graph{good, shared, loop, g} {
			want(g, other, api.ErrForm)
			want(other, g, api.ErrForm)
		}
	}
	for _, g := range []api.Graph{shared, loop, root} {
		for _, other := range []api.Graph{good, shared, loop} {
			want(g, other, api.ErrShare)
			want(other, g, api.ErrShare)
		}
	}
	want(good, good, api.OK)
}

// numbers returns the list of some numbers.
func numbers(from, count int) api.Graph {
	g := rooted(list())
	for i := range count {
		g.Nodes[0].Items = append(g.Nodes[0].Items, i+1)
		g.Nodes = append(g.Nodes, integer(fmt.Sprint(from+i)))
	}
	return g
}

func TestLargeLists(t *testing.T) { // P16.1, P16.2: the indices and the number of changes of long lists
	most := api.MaxNodes - 1
	for _, row := range []struct {
		a, b                   api.Graph
		removes, sets, inserts int
	}{
		{numbers(0, most), numbers(0, most), 0, 0, 0},
		{numbers(0, most), numbers(most, most), 0, most, 0},
		{numbers(0, most), numbers(100, most), 100, 0, 100},
		{numbers(100, most), numbers(0, most), 100, 0, 100},
		{numbers(0, most), numbers(1000, 500), most - 500, 0, 0},
		{numbers(1000, 500), numbers(0, most), 0, 0, most - 500},
		{numbers(0, 10), numbers(5000, most), 0, 10, most - 10},
	} {
		l, e := diff.Diff(row.a, row.b)
		counts := [4]int{}
		for _, c := range l {
			counts[c.Op]++
		}
		if e != api.OK || counts != [4]int{0, row.sets, row.inserts, row.removes} {
			t.Errorf("%v changes, %d; want %d, %d, %d", counts, e, row.sets, row.inserts, row.removes)
		}
		if n, e := diff.Distance(row.a, row.b); n != len(l) || e != api.OK {
			t.Errorf("the distance is %d, %d", n, e)
		}
		// Applying all changes of a long list takes seconds, so most are applied to the numbers alone.
		if got := replay(row.a, l); !slices.Equal(got, replay(row.b, nil)) {
			t.Errorf("the changes lead to a list of %d items", len(got))
		}
	}
}

// replay returns the texts of the items of a list after changes of its items.
func replay(g api.Graph, l []api.Change) []string {
	var texts []string
	for _, item := range g.Nodes[0].Items {
		texts = append(texts, g.Nodes[item].Text)
	}
	for _, c := range l {
		index := c.Path[0].Index
		switch c.Op {
		case api.Set:
			texts[index] = c.Value.Nodes[0].Text
		case api.Insert:
			texts = slices.Insert(texts, index, c.Value.Nodes[0].Text)
		case api.Remove:
			texts = slices.Delete(texts, index, index+1)
		}
	}
	return texts
}

func TestLongKeys(t *testing.T) { // P16.1, P16.2: keys whose key texts have more than MaxSource bytes
	long := strings.Repeat(`"`, api.MaxSource)
	key := `"` + strings.Repeat(`\"`, api.MaxSource) + `"`
	other := key[:len(key)-1] + `a"`
	a := rooted(entries(1, 2, 3, 4), text(long), integer("1"), text("a"), integer("2"))
	b := rooted(entries(1, 2, 3, 4), text(long), integer("3"), text(long+"a"), integer("4"))
	l, e := diff.Diff(a, b)
	want := []api.Change{
		{Op: api.Remove, Path: api.Path{{Key: `"a"`}}},
		{Op: api.Set, Path: api.Path{{Key: key}}, Value: parsed(t, "3")},
		{Op: api.Insert, Path: api.Path{{Key: other}}, Value: parsed(t, "4")},
	}
	if e != api.OK || !identicalChanges(l, want) {
		t.Errorf("Diff: %d changes, %d", len(l), e)
	}
	if g, e := change.Apply(a, l...); e != api.OK || !canon.Same(g, b) {
		t.Errorf("Apply: %d nodes, %d", len(g.Nodes), e)
	}
}

func TestGrowth(t *testing.T) { // P16.1: the order of the changes is fixed, even if a value between a and b has too many nodes for layer 15
	few, many := rooted(list()), numbers(0, 3000)
	pair := func(x, y api.Graph) api.Graph {
		g, e := change.Apply(parsed(t, "{1=0,2=0}"), api.Change{Op: api.Set, Path: api.Path{{Key: "1"}}, Value: x}, api.Change{Op: api.Set, Path: api.Path{{Key: "2"}}, Value: y})
		if e != api.OK {
			t.Fatalf("Apply: %d", e)
		}
		return g
	}
	a, b := pair(few, many), pair(many, few)
	l, e := diff.Diff(a, b)
	if e != api.OK || len(l) != 6000 || l[0].Op != api.Insert || l[5999].Op != api.Remove {
		t.Fatalf("Diff: %d changes, %d", len(l), e)
	}
	if _, e := change.Apply(a, l...); e != api.ErrMany {
		t.Errorf("Apply: %d", e)
	}
}

func TestMemory(t *testing.T) { // P16.1: arguments are not modified, and no two results share memory with them or one another
	random := rand.New(rand.NewSource(3))
	for range 1000 {
		a, b := randomTree(random, 25), randomTree(random, 25)
		first, second := clone(a), clone(b)
		l, _ := diff.Diff(a, b)
		again, _ := diff.Diff(a, b)
		for i, c := range l {
			if !identicalChanges(l[i:], again[i:]) {
				t.Fatalf("changes of Diff(%s, %s) share memory", keyOf(first), keyOf(second))
			}
			spoil(c)
		}
		if !identical(a, first) || !identical(b, second) {
			t.Fatalf("Diff(%s, %s) shares memory with its arguments", keyOf(first), keyOf(second))
		}
		if more, _ := diff.Diff(a, b); !identicalChanges(more, again) {
			t.Fatalf("Diff(%s, %s) has another result", keyOf(first), keyOf(second))
		}
	}
}

// spoil overwrites the memory of a change, with its spare capacity.
func spoil(c api.Change) {
	steps := c.Path[:cap(c.Path)]
	for i := range steps {
		steps[i] = api.Step{Index: -1, Key: "?"}
	}
	nodes := c.Value.Nodes[:cap(c.Value.Nodes)]
	for i, n := range nodes {
		for _, references := range [][]int{n.Keys, n.Items} {
			references = references[:cap(references)]
			for j := range references {
				references[j] = -1
			}
		}
		nodes[i] = api.Node{Kind: -1}
	}
}
