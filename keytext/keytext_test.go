package keytext_test

import (
	"slices"
	"strings"
	"testing"

	"rosetta/api"
	"rosetta/graph"
	"rosetta/keytext"
)

// The tests of canon compare key texts, their order and their parser with a reference; these tests concern what canon does not show: texts of any length, and single nodes.

func scalar(kind int, text string) api.Node { return api.Node{Kind: kind, Text: text} }
func list(items ...int) api.Node            { return api.Node{Kind: api.List, Items: items} }

func TestLongTexts(t *testing.T) { // P11.1: a key text has no limit where no function of canon sets one
	for _, row := range []struct {
		node api.Node
		want string
	}{
		{scalar(api.Text, strings.Repeat(`\`, api.MaxSource)), `"` + strings.Repeat(`\\`, api.MaxSource) + `"`},
		{scalar(api.Bytes, strings.Repeat("\x0f", 3*api.MaxSource)), "#" + strings.Repeat("0f", 3*api.MaxSource)},
	} {
		if s := keytext.Of([]api.Node{row.node}, 0); s != row.want {
			t.Errorf("Of a text of %d bytes: %d bytes", len(row.node.Text), len(s))
		}
		g, ok := keytext.Parse(row.want)
		if !ok || g.Root != 0 || len(g.Nodes) != 1 || g.Nodes[0].Kind != row.node.Kind || g.Nodes[0].Text != row.node.Text {
			t.Errorf("Parse(%.20q) returns %d nodes, %t", row.want, len(g.Nodes), ok)
		}
	}
	for _, c := range []string{"[", "{", "<", "!t(", "{1=", `"`, `\`, "1"} {
		if g, ok := keytext.Parse(strings.Repeat(c, 1<<22)); ok || len(g.Nodes) != 0 {
			t.Errorf("Parse of many %s returns a value", c)
		}
	}
}

func TestWithin(t *testing.T) { // P11.1
	nodes := []api.Node{
		{Kind: api.List, Items: []int{1, 2, 4}},
		scalar(api.Text, `a"`),
		{Kind: api.Map, Keys: []int{3}, Items: []int{5}},
		scalar(api.Int, "10"),
		{Kind: api.Tag, Text: "t", Items: []int{5}},
		scalar(api.Null, ""),
	}
	for node, want := range []string{`["a\"",{10=null},!t(null)]`, `"a\""`, "{10=null}", "10", "!t(null)", "null"} {
		if s := keytext.Of(nodes, node); s != want {
			t.Errorf("Of node %d: %q; want %q", node, s, want)
		}
		for most := range len(want) + 3 {
			s, ok := keytext.Within(nodes, node, most)
			if ok != (len(want) <= most) || ok && s != want || !ok && s != "" {
				t.Errorf("Within(%d, %d) = %q, %t", node, most, s, ok)
			}
		}
	}
}

func TestSortedKeepsNumbers(t *testing.T) { // P11.3
	nodes := []api.Node{
		{Kind: api.Map, Keys: []int{1, 2}, Items: []int{0, 3}},
		scalar(api.Int, "10"),
		scalar(api.Int, "9"),
		{Kind: api.Map, Ordered: true, Keys: []int{4, 5}, Items: []int{0, 3}},
		scalar(api.Int, "10"),
		{Kind: api.Map, Keys: []int{6, 7}, Items: []int{8, 9}},
		scalar(api.Text, "b"),
		scalar(api.Text, "a"),
		list(),
		list(),
	}
	g := api.Graph{Nodes: nodes, Root: 3}
	if e := graph.Check(g); e != api.OK {
		t.Fatalf("Check: %d", e)
	}
	sorted := keytext.Sorted(g)
	for i, n := range sorted {
		keys, items := nodes[i].Keys, nodes[i].Items
		if i == 0 || i == 5 {
			keys, items = []int{keys[1], keys[0]}, []int{items[1], items[0]}
		}
		if n.Kind != nodes[i].Kind || n.Text != nodes[i].Text || n.Ordered != nodes[i].Ordered || !slices.Equal(n.Keys, keys) || !slices.Equal(n.Items, items) {
			t.Errorf("node %d is %v", i, n)
		}
		for j := range n.Items {
			n.Items[j] = -1
		}
	}
	if !slices.Equal(nodes[3].Items, []int{0, 3}) || !slices.Equal(nodes[0].Items, []int{0, 3}) {
		t.Errorf("Sorted shares memory with its argument")
	}
	for node, want := range map[int]string{5: `{"a"=[],"b"=[]}`, 1: "10", 8: "[]"} {
		if s := keytext.Of(keytext.Sorted(g), node); s != want {
			t.Errorf("Of node %d: %q", node, s)
		}
	}
}

func TestParts(t *testing.T) { // P11.3
	m := api.Node{Kind: api.Map, Keys: []int{1, 3}, Items: []int{2, 4}}
	if parts := keytext.Parts(m); !slices.Equal(parts, []int{1, 2, 3, 4}) {
		t.Errorf("parts of a map: %v", parts)
	}
	l := list(7, 7)
	parts := keytext.Parts(l)
	if !slices.Equal(parts, l.Items) {
		t.Errorf("parts of a list: %v", parts)
	}
	parts[0] = 1
	if l.Items[0] != 7 {
		t.Errorf("Parts shares memory")
	}
}

func TestUnite(t *testing.T) { // P11.2, P16.1: equal values of all graphs are one node, and the entries of unordered maps are sorted
	a := api.Graph{Nodes: []api.Node{
		{Kind: api.Map, Keys: []int{1, 2}, Items: []int{3, 4}},
		scalar(api.Text, "b"),
		scalar(api.Text, "a"),
		list(5, 6),
		scalar(api.Text, "b"),
		list(),
		list(),
	}}
	b := api.Graph{Root: 1, Nodes: []api.Node{
		list(2, 3),
		{Kind: api.Map, Ordered: true, Keys: []int{4, 5}, Items: []int{0, 6}},
		list(),
		list(),
		scalar(api.Text, "a"),
		scalar(api.Text, "b"),
		scalar(api.Bytes, "b"),
	}}
	nodes, roots := keytext.Unite(a, b, a)
	if len(roots) != 3 || roots[0] == roots[1] || roots[0] != roots[2] {
		t.Fatalf("the roots are %v", roots)
	}
	texts := map[string]bool{}
	for node := range nodes {
		texts[keytext.Of(nodes, node)] = true
	}
	// These are "a", "b", #62, [], [[],[]] and both maps.
	if len(texts) != len(nodes) || len(nodes) != 7 {
		t.Errorf("%d nodes for the values %v", len(nodes), texts)
	}
	for root, want := range []string{`{"a"="b","b"=[[],[]]}`, `<"a"=[[],[]],"b"=#62>`} {
		if s := keytext.Of(nodes, roots[root]); s != want {
			t.Errorf("root %d is %s; want %s", root, s, want)
		}
	}
	if !slices.Equal(a.Nodes[0].Keys, []int{1, 2}) || !slices.Equal(a.Nodes[3].Items, []int{5, 6}) || !slices.Equal(b.Nodes[1].Items, []int{0, 6}) {
		t.Errorf("Unite has changed its arguments")
	}
}

func TestRenumber(t *testing.T) { // P11.3: nodes are numbered by their first visits, and those that are not reached are dropped
	nodes := []api.Node{
		scalar(api.Null, ""),
		list(1, 4, 1),
		scalar(api.Int, "1"),
		{Kind: api.Map, Keys: []int{5, 2}, Items: []int{1, 3}},
		list(),
		scalar(api.Int, "2"),
	}
	want := []api.Node{
		{Kind: api.Map, Keys: []int{1, 4}, Items: []int{2, 0}},
		scalar(api.Int, "2"),
		list(2, 3, 2),
		list(),
		scalar(api.Int, "1"),
	}
	got := keytext.Renumber(nodes, 3)
	if len(got) != len(want) {
		t.Fatalf("%d nodes; want %d", len(got), len(want))
	}
	for i, n := range got {
		if n.Kind != want[i].Kind || n.Text != want[i].Text || !slices.Equal(n.Keys, want[i].Keys) || !slices.Equal(n.Items, want[i].Items) {
			t.Errorf("node %d is %v; want %v", i, n, want[i])
		}
	}
}
