package path_test

import (
	"iter"
	"math/rand"
	"slices"
	"strings"
	"testing"

	"rosetta/api"
	"rosetta/path"
)

// all returns what All yields.
func all(g api.Graph) (texts []string, nodes []int) {
	for s, node := range path.All(g) {
		texts = append(texts, s)
		nodes = append(nodes, node)
	}
	return texts, nodes
}

// textOf writes a path, each step by itself, without the conditions of Text.
func textOf(t *testing.T, p api.Path) string {
	t.Helper()
	var s string
	for _, step := range p {
		part := path.Text(api.Path{step})
		if part == "" {
			t.Fatalf("the step %v has no text", step)
		}
		s += part
	}
	return s
}

func TestFind(t *testing.T) { // P14.2
	g := parsed(t, `{1=<"z"=null,[1]=true>,"a"=[7,{"b"=8}],"x y"=!t([]),{"b"=[],"}"={}}=#}`)
	for _, row := range []struct {
		s    string
		want string
		e    api.Errno
	}{
		{"", "", api.OK},
		{".a", "[7,{\"b\"=8}]", api.OK},
		{".a[0]", "7", api.OK},
		{".a@12[1].b@3", "8", api.OK},
		{`{"x y"}[0]`, "[]", api.OK},
		{"{1}.z", "null", api.OK},
		{"{1}{[1]}", "true", api.OK},
		{`{{"b"=[],"}"={}}}`, "#", api.OK},
		// Steps that select nothing.
		{".a.b", "", api.ErrKind},
		{"[0]", "", api.ErrKind},
		{".a[0][0]", "", api.ErrKind},
		{".a[0].b", "", api.ErrKind},
		{`{"x y"}.t`, "", api.ErrKind},
		{"{1}[0]", "", api.ErrKind},
		{"{1}.z.z", "", api.ErrKind},
		{".b", "", api.ErrNone},
		{"{2}", "", api.ErrNone},
		{`{"1"}`, "", api.ErrNone},
		{"{10}", "", api.ErrNone},
		{"{{}}", "", api.ErrNone},
		{".a[2]", "", api.ErrNone},
		{".a[999999999]", "", api.ErrNone},
		{`{"x y"}[1]`, "", api.ErrNone},
		{`{"x y"}[0][0]`, "", api.ErrNone},
		{"{1}{1}", "", api.ErrNone},
		{".a[1].c", "", api.ErrNone},
		// The first step that selects nothing counts.
		{".b[0]", "", api.ErrNone},
		{".a.b{2}", "", api.ErrKind},
	} {
		p, e := path.Parse(row.s)
		if e != api.OK {
			t.Fatalf("Parse(%q): %d", row.s, e)
		}
		n, e := path.Find(g, p)
		if e != row.e || e != api.OK && n != 0 {
			t.Errorf("Find(%s) = %d, %d; want the error %d", row.s, n, e, row.e)
		}
		if e == api.OK && row.want != "" && keyOf(g, n) != row.want {
			t.Errorf("Find(%s) is %s; want %s", row.s, keyOf(g, n), row.want)
		}
	}
	if n, e := path.Find(api.Graph{Nodes: []api.Node{integer("1"), list(0)}, Root: 1}, nil); n != 1 || e != api.OK {
		t.Errorf("Find of the root = %d, %d", n, e)
	}
	if n, e := path.Find(rooted(list(0)), slices.Repeat(api.Path{item(0)}, api.MaxParts)); n != 0 || e != api.OK {
		t.Errorf("Find in a cycle = %d, %d", n, e)
	}
	for _, step := range []api.Step{item(0), value("1")} {
		if n, e := path.Find(rooted(list(0)), slices.Repeat(api.Path{step}, api.MaxParts+1)); n != 0 || e != api.ErrArg {
			t.Errorf("Find of a path that is too long = %d, %d", n, e)
		}
	}
	// Validity comes before what the first steps select.
	if n, e := path.Find(g, api.Path{item(0), value("01")}); n != 0 || e != api.ErrArg {
		t.Errorf("Find of an invalid path = %d, %d", n, e)
	}
}

func TestAll(t *testing.T) { // P14.2
	one, a, b := integer("1"), text("a"), text("b")
	for _, row := range []struct {
		g     api.Graph
		texts []string
		nodes []int
	}{
		{rooted(one), []string{""}, []int{0}},
		{api.Graph{Nodes: []api.Node{one, list(0, 0)}, Root: 1}, []string{"", "[0]"}, []int{1, 0}},
		{rooted(list(0)), []string{""}, []int{0}},
		{rooted(list(2, 1), one, list(1)), []string{"", "[0]", "[0][0]"}, []int{0, 2, 1}},
		{rooted(tag("t", 1), list(0, 2), one), []string{"", "[0]", "[0][1]"}, []int{0, 1, 2}},
		{rooted(entries(1, 2, 3, 4), b, one, a, list(2)), []string{"", ".a", ".a[0]"}, []int{0, 4, 2}},
		{rooted(inOrder(entries(1, 2, 3, 4)), b, one, a, list(2)), []string{"", ".b", ".a"}, []int{0, 2, 4}},
		{rooted(entries(1, 2, 3, 4), integer("10"), one, integer("9"), one), []string{"", "{9}", "{10}"}, []int{0, 4, 2}},
		// Keys are not visited, with whatever they contain.
		{rooted(entries(1, 4), list(2, 3), one, one, one), []string{"", "{[1,1]}"}, []int{0, 4}},
		{rooted(entries(1, 6), entries(2, 3, 4, 5), b, one, a, one, one), []string{"", `{{"a"=1,"b"=1}}`}, []int{0, 6}},
	} {
		texts, nodes := all(row.g)
		if !slices.Equal(texts, row.texts) || !slices.Equal(nodes, row.nodes) {
			t.Errorf("All(%s) yields %q, %v; want %q, %v", show(row.g), texts, nodes, row.texts, row.nodes)
		}
	}
}

func TestRandomValues(t *testing.T) { // P14.1, P14.2, P14.3
	random := rand.New(rand.NewSource(3))
	steps := api.Path{item(0), item(1), item(2), value(`"a"`), value(`"b c"`), value("9"), value("[1,1]"), value(`{"a"=[],"}"=[]}`), {Index: 5, Key: "10"}}
	patterns := []string{"[**]", "[**][0]", "[*][*]", ".a[**]", "[**].a[*]", "[**]{[1,1]}[**]", "[0][**]{9}@4", "[**][1][*][**]", ""}
	found := 0
	for range 2000 {
		g := validGraph(random, 25)
		before := clone(g)
		items := childrenOf(g)
		visits := referenceVisits(g, items)
		texts, nodes := all(g)
		if len(texts) != len(visits) {
			t.Fatalf("All(%s) yields %q", show(g), texts)
		}
		for i, v := range visits {
			if texts[i] != textOf(t, v.path) || nodes[i] != v.node {
				t.Fatalf("All(%s) yields %q, %v", show(g), texts, nodes)
			}
			p, e := path.Parse(texts[i])
			if n, f := path.Find(g, p); e != api.OK || f != api.OK || n != nodes[i] {
				t.Fatalf("Find(%s, %s) = %d, %d", show(g), texts[i], n, f)
			}
			for _, step := range steps {
				longer := append(slices.Clone(p), step)
				want, e := referenceFind(g, items, longer)
				if n, f := path.Find(g, longer); n != want || f != e {
					t.Fatalf("Find(%s, %v) = %d, %d; want %d, %d", show(g), longer, n, f, want, e)
				}
				if e == api.OK {
					found++
				}
			}
		}
		for _, s := range patterns {
			wantSelection(t, g, s, visits)
		}
		if !identical(g, before) {
			t.Fatalf("%s has been changed", show(before))
		}
	}
	if found < 4000 {
		t.Errorf("only %d paths lead to nodes", found)
	}
}

func TestAllStops(t *testing.T) { // P14.2: a loop can end early, and the sequence can be used again
	random := rand.New(rand.NewSource(4))
	for range 200 {
		g := validGraph(random, 20)
		texts, nodes := all(g)
		sequence := path.All(g)
		for most := range len(nodes) + 1 {
			count := 0
			for s, node := range sequence {
				if s != texts[count] || node != nodes[count] {
					t.Fatalf("All(%s) yields %q, %d", show(g), s, node)
				}
				count++
				if count >= most {
					break
				}
			}
			if count != max(1, most) {
				t.Fatalf("All(%s) yields %d pairs", show(g), count)
			}
		}
		wantIndependent(t, sequence, texts)
	}
}

// wantIndependent checks that two loops over a sequence at the same time do not disturb one another.
func wantIndependent(t *testing.T, sequence iter.Seq2[string, int], texts []string) {
	t.Helper()
	next, stop := iter.Pull2(sequence)
	defer stop()
	for _, want := range texts {
		s, _, ok := next()
		if !ok || s != want {
			t.Fatalf("%q, %t; want %q", s, ok, want)
		}
		count := 0
		for s := range sequence {
			if s != texts[count] {
				t.Fatalf("%q; want %q", s, texts[count])
			}
			count++
		}
	}
	if s, _, ok := next(); ok {
		t.Fatalf("%q after the end", s)
	}
}

func TestAllKeepsItsValue(t *testing.T) { // P14.2: what becomes of the argument after the call has no effect
	random := rand.New(rand.NewSource(5))
	for range 200 {
		g := validGraph(random, 20)
		texts, nodes := all(g)
		sequence := path.All(g)
		spoil(g)
		i := 0
		for s, node := range sequence {
			if s != texts[i] || node != nodes[i] {
				t.Fatalf("%q, %d; want %q, %d", s, node, texts[i], nodes[i])
			}
			i++
		}
		if i != len(texts) {
			t.Fatalf("%d pairs; want %d", i, len(texts))
		}
	}
	bad := rooted(text("\xff"))
	sequence := path.All(bad)
	bad.Nodes[0].Text = "a"
	for s := range sequence {
		t.Errorf("%q in an invalid graph", s)
	}
}

func TestInvalidGraphs(t *testing.T) { // P14.2, P14.3
	deep := api.Graph{}
	for i := range api.MaxDepth + 1 {
		deep.Nodes = append(deep.Nodes, list(i+1))
	}
	deep.Nodes = append(deep.Nodes, list())
	pattern, _ := path.Compile("[**]")
	for _, bad := range []api.Graph{
		{},
		{Nodes: []api.Node{text("a")}, Root: 1},
		{Nodes: []api.Node{text("a")}, Root: -1},
		rooted(text("\xff")),
		rooted(list(1)),
		rooted(text("a"), text("a")),
		rooted(entries(1, 0, 2, 0), text("a"), text("a")),
		rooted(entries(1, 1), text("a")),
		deep,
		{Nodes: make([]api.Node, api.MaxNodes+1)},
	} {
		for _, p := range []api.Path{nil, {item(0)}, {item(-1)}} {
			if n, e := path.Find(bad, p); n != 0 || e != api.ErrForm {
				t.Errorf("Find(%s, %v) = %d, %d", show(bad), p, n, e)
			}
		}
		if texts, _ := all(bad); len(texts) != 0 {
			t.Errorf("All(%s) yields %q", show(bad), texts)
		}
		if l, e := pattern.Select(bad); len(l) != 0 || e != api.ErrForm {
			t.Errorf("Select(%s) = %v, %d", show(bad), l, e)
		}
	}
}

func TestLongKeys(t *testing.T) { // P14.2, P14.3: keys whose key texts have more than MaxSource bytes
	long := strings.Repeat(`"`, api.MaxSource)
	key := `"` + strings.Repeat(`\"`, api.MaxSource) + `"`
	g := rooted(entries(1, 3, 2, 4), text(long), text(long+"a"), integer("1"), list(5), list())
	other := key[:len(key)-1] + `a"`
	texts, nodes := all(g)
	if !slices.Equal(texts, []string{"", "{" + key + "}", "{" + other + "}", "{" + other + "}[0]"}) || !slices.Equal(nodes, []int{0, 3, 4, 5}) {
		t.Errorf("All yields %v", nodes)
	}
	if n, e := path.Find(g, api.Path{value(other), item(0)}); n != 5 || e != api.OK {
		t.Errorf("Find = %d, %d", n, e)
	}
	if n, e := path.Find(g, api.Path{value(other[:len(other)-1] + `a"`)}); n != 0 || e != api.ErrNone {
		t.Errorf("Find = %d, %d", n, e)
	}
	pattern, _ := path.Compile("[*]")
	if l, e := pattern.Select(g); e != api.OK || len(l) != 2 || !slices.Equal(l[0], api.Path{value(key)}) || !slices.Equal(l[1], api.Path{value(other)}) {
		t.Errorf("Select returns %d paths, %d", len(l), e)
	}
}

func TestLargeValues(t *testing.T) { // P14.2: values with many nodes, references and paths
	var tower api.Graph
	for i := range api.MaxDepth {
		tower.Nodes = append(tower.Nodes, list(slices.Repeat([]int{i + 1}, 1000)...))
	}
	tower.Nodes = append(tower.Nodes, integer("1"))
	texts, nodes := all(tower)
	for i, s := range texts {
		if s != strings.Repeat("[0]", i) || nodes[i] != i {
			t.Errorf("%q, %d", s, nodes[i])
		}
	}
	if len(texts) != api.MaxDepth+1 {
		t.Errorf("%d nodes", len(texts))
	}
	wide := rooted(list())
	for i := range api.MaxNodes - 1 {
		wide.Nodes[0].Items = append(wide.Nodes[0].Items, i+1)
		wide.Nodes = append(wide.Nodes, list())
	}
	texts, nodes = all(wide)
	if len(texts) != api.MaxNodes || texts[api.MaxNodes-1] != "[4094]" || nodes[api.MaxNodes-1] != api.MaxNodes-1 {
		t.Errorf("%d nodes", len(texts))
	}
}
