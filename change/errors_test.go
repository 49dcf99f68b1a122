package change_test

import (
	"slices"
	"strings"
	"testing"

	"rosetta/api"
	"rosetta/change"
)

// wantError checks that all functions return an error, and zero values beside it.
func wantError(t *testing.T, g api.Graph, c api.Change, want api.Errno) {
	t.Helper()
	if e := change.Check(g, c); e != want {
		t.Errorf("Check(%s, %s) = %d; want %d", show(g), describe(c), e, want)
	}
	if got, e := change.Apply(g, c); e != want || want != api.OK && !identical(got, api.Graph{}) {
		t.Errorf("Apply(%s, %s) = %s, %d; want %d", show(g), describe(c), show(got), e, want)
	}
	if inverse, e := change.Invert(g, c); e != want || want != api.OK && !identicalChanges(inverse, api.Change{}) {
		t.Errorf("Invert(%s, %s) = %s, %d; want %d", show(g), describe(c), describe(inverse), e, want)
	}
}

func TestErrors(t *testing.T) { // P15.1, P15.2: each error, and that it comes before the next ones
	bad := rooted(integer("01"))
	one := parsed(t, "1")
	lost := item(7)
	for _, row := range []struct {
		g string
		c api.Change
		e api.Errno
	}{
		// 2. What the Op does not allow.
		{"[1]", api.Change{}, api.ErrArg},
		{"[1]", api.Change{Op: 4, Path: api.Path{item(0)}, Value: one}, api.ErrArg},
		{"[1]", api.Change{Op: -1, Path: api.Path{lost}, Value: bad}, api.ErrArg},
		{"[1]", insert(nil, one), api.ErrArg},
		{"[1]", insert(nil, bad), api.ErrArg},
		{"[1]", remove(nil), api.ErrArg},
		{"[1]", api.Change{Op: api.Remove, Path: api.Path{item(0)}, Value: one}, api.ErrArg},
		{"[1]", api.Change{Op: api.Remove, Path: api.Path{lost}, Value: one}, api.ErrArg},
		{"[1]", api.Change{Op: api.Remove, Path: api.Path{item(0)}, Value: api.Graph{Root: 1}}, api.ErrArg},
		{"[1]", api.Change{Op: api.Remove, Path: api.Path{item(0)}, Value: api.Graph{Nodes: []api.Node{}}}, api.OK},
		// 3. The Value.
		{"[1]", set(nil, bad), api.ErrForm},
		{"[1]", set(nil, api.Graph{}), api.ErrForm},
		{"[1]", set(api.Path{lost}, bad), api.ErrForm},
		{"[1]", insert(api.Path{lost, lost}, bad), api.ErrForm},
		{"[1]", insert(api.Path{value("1")}, api.Graph{}), api.ErrForm},
		// 4. The path.
		{"[1]", set(api.Path{item(1)}, one), api.ErrNone},
		{"[1]", set(api.Path{item(-1)}, one), api.ErrNone},
		{"[1]", set(api.Path{value("1")}, one), api.ErrNone},
		{"[1]", set(api.Path{item(0), item(0)}, one), api.ErrNone},
		{"!t([])", set(api.Path{item(1)}, one), api.ErrNone},
		{"!t([])", set(api.Path{item(-1)}, one), api.ErrNone},
		{"!t([])", set(api.Path{value(`"t"`)}, one), api.ErrNone},
		{"{1=[]}", set(api.Path{item(0)}, one), api.ErrNone},
		{"{1=[]}", set(api.Path{item(1)}, one), api.ErrNone},
		{"{1=[]}", set(api.Path{value("2")}, one), api.ErrNone},
		{"{1=[]}", set(api.Path{value("01")}, one), api.ErrNone},
		{"{1=[]}", set(api.Path{value(`"1"`)}, one), api.ErrNone},
		{"<1=[]>", set(api.Path{item(0)}, one), api.ErrNone},
		{"<1=[]>", set(api.Path{value("2")}, one), api.ErrNone},
		{"1", set(api.Path{item(0)}, one), api.ErrNone},
		{"1", set(api.Path{value("1")}, one), api.ErrNone},
		{"[1]", insert(api.Path{item(1), value("01")}, one), api.ErrNone},
		{"[1]", remove(api.Path{item(1), item(0)}), api.ErrNone},
		{"{1=[]}", remove(api.Path{value("2"), item(0)}), api.ErrNone},
		{"{1=[]}", insert(api.Path{item(0), item(9)}, one), api.ErrNone},
		// 5. The container.
		{"[1]", insert(api.Path{value("01")}, one), api.ErrKind},
		{"[1]", remove(api.Path{value("1")}), api.ErrKind},
		{"{1=2}", insert(api.Path{item(9)}, one), api.ErrKind},
		{"{1=2}", remove(api.Path{item(0)}), api.ErrKind},
		{"<1=2>", insert(api.Path{item(0)}, one), api.ErrKind},
		{"<1=2>", remove(api.Path{item(9)}), api.ErrKind},
		{"!t(1)", insert(api.Path{item(0)}, one), api.ErrKind},
		{"!t(1)", insert(api.Path{value("1")}, one), api.ErrKind},
		{"!t(1)", remove(api.Path{item(0)}), api.ErrKind},
		{"!t(1)", remove(api.Path{item(1)}), api.ErrKind},
		{"[1]", insert(api.Path{item(0), item(0)}, one), api.ErrKind},
		{"[1]", insert(api.Path{item(0), value("1")}, one), api.ErrKind},
		{"[1]", remove(api.Path{item(0), item(0)}), api.ErrKind},
		{"[null]", remove(api.Path{item(0), value("1")}), api.ErrKind},
		// 6. What a Remove names.
		{"[1]", remove(api.Path{item(1)}), api.ErrNone},
		{"[1]", remove(api.Path{item(-1)}), api.ErrNone},
		{"[]", remove(api.Path{item(0)}), api.ErrNone},
		{"{1=2}", remove(api.Path{value("2")}), api.ErrNone},
		{"{1=2}", remove(api.Path{value("01")}), api.ErrNone},
		{"<1=2>", remove(api.Path{value("2")}), api.ErrNone},
		// 7. What an Insert names.
		{"[1]", insert(api.Path{item(2)}, one), api.ErrRange},
		{"[1]", insert(api.Path{item(-1)}, one), api.ErrRange},
		{"[1]", insert(api.Path{item(1)}, one), api.OK},
		{"{1=2}", insert(api.Path{value("01")}, one), api.ErrKey},
		{"{1=2}", insert(api.Path{{Index: 1, Key: `{"b"=1,"a"=2}`}}, one), api.ErrKey},
		{"{1=2}", insert(api.Path{{Index: 1, Key: "a"}}, one), api.ErrKey},
		{"<1=2>", insert(api.Path{{Index: 9, Key: "[1"}}, one), api.ErrKey},
		{"<1=2>", insert(api.Path{{Index: -1, Key: "\"\xff\""}}, one), api.ErrKey},
		{"{1=2}", insert(api.Path{value("1")}, one), api.ErrTwice},
		{"{1=2}", insert(api.Path{{Index: 1, Key: "1"}}, one), api.ErrTwice},
		{"<1=2>", insert(api.Path{{Index: 9, Key: "1"}}, one), api.ErrTwice},
		{"{1=2}", insert(api.Path{{Index: 1, Key: "2"}}, one), api.ErrArg},
		{"{1=2}", insert(api.Path{{Index: -1, Key: "2"}}, one), api.ErrArg},
		{"{1=2}", insert(api.Path{{Index: 9, Key: "2"}}, one), api.ErrArg},
		{"<1=2>", insert(api.Path{{Index: 2, Key: "2"}}, one), api.ErrRange},
		{"<1=2>", insert(api.Path{{Index: -1, Key: "2"}}, one), api.ErrRange},
		{"<1=2>", insert(api.Path{{Index: 1, Key: "2"}}, one), api.OK},
	} {
		wantError(t, parsed(t, row.g), row.c, row.e)
		// 1. The value comes before everything else.
		wantError(t, bad, row.c, api.ErrForm)
	}
}

func TestInvalidValues(t *testing.T) { // P15.1, P15.2: all ways in which a value or the Value of a change can be invalid
	deep := api.Graph{}
	for i := range api.MaxDepth + 1 {
		deep.Nodes = append(deep.Nodes, list(i+1))
	}
	deep.Nodes = append(deep.Nodes, list())
	for _, bad := range []api.Graph{
		{},
		{Nodes: []api.Node{text("a")}, Root: 1},
		{Nodes: []api.Node{text("a")}, Root: -1},
		rooted(text("\xff")),
		rooted(list(1)),
		rooted(list(-1)),
		rooted(text("a"), text("a")),
		rooted(entries(1, 0, 2, 0), text("a"), text("a")),
		rooted(entries(1, 1), text("a")),
		deep,
		{Nodes: make([]api.Node, api.MaxNodes+1)},
	} {
		wantError(t, bad, set(nil, parsed(t, "1")), api.ErrForm)
		wantError(t, bad, api.Change{}, api.ErrForm)
		wantError(t, parsed(t, "[]"), set(nil, bad), api.ErrForm)
		wantError(t, parsed(t, "[]"), insert(api.Path{item(5)}, bad), api.ErrForm)
	}
}

// wide returns a list of that many nodes in all.
func wide(size int) api.Graph {
	g := rooted(list())
	for i := 1; i < size; i++ {
		g.Nodes[0].Items = append(g.Nodes[0].Items, i)
		g.Nodes = append(g.Nodes, integer("1"))
	}
	return g
}

// tower returns a list of a list, and so on, of the given depth.
func tower(depth int) api.Graph {
	var g api.Graph
	for i := range depth {
		g.Nodes = append(g.Nodes, list(i+1))
	}
	g.Nodes = append(g.Nodes, list())
	return g
}

func TestLimits(t *testing.T) { // P15.1, P15.2: the errors of graph.Check for the result
	many := rooted(list(1, 1), list())
	for i := range 2046 {
		many.Nodes[1].Items = append(many.Nodes[1].Items, i+2)
		many.Nodes = append(many.Nodes, integer("1"))
	}
	for _, row := range []struct {
		g api.Graph
		c api.Change
		e api.Errno
	}{
		{wide(api.MaxNodes), insert(api.Path{item(0)}, wide(1)), api.ErrMany},
		{wide(api.MaxNodes - 1), insert(api.Path{item(0)}, wide(1)), api.OK},
		{wide(api.MaxNodes - 1), insert(api.Path{item(0)}, wide(2)), api.ErrMany},
		{wide(api.MaxNodes), set(api.Path{item(4094)}, wide(1)), api.OK},
		{wide(api.MaxNodes), set(api.Path{item(4094)}, wide(2)), api.ErrMany},
		{wide(api.MaxNodes), set(nil, wide(api.MaxNodes)), api.OK},
		{wide(api.MaxNodes), remove(api.Path{item(4094)}), api.OK},
		// A map is copied with its keys, and what is not reached any more does not count.
		{many, set(api.Path{item(0), item(0)}, wide(2046)), api.OK},
		{many, set(api.Path{item(0), item(0)}, wide(2047)), api.OK},
		{many, set(api.Path{item(0), item(0)}, wide(2048)), api.ErrMany},
		{many, set(api.Path{item(0)}, wide(2048)), api.OK},
		{many, set(api.Path{item(0)}, wide(2049)), api.ErrMany},
		{rooted(list(1, 1), entries(2, 3), text("a"), integer("1")), insert(api.Path{item(0), value(`"b"`)}, wide(api.MaxNodes-7)), api.OK},
		{rooted(list(1, 1), entries(2, 3), text("a"), integer("1")), insert(api.Path{item(0), value(`"b"`)}, wide(api.MaxNodes-6)), api.ErrMany},
		{rooted(list(1, 1), entries(2, 3), text("a"), integer("1")), set(api.Path{item(0), value(`"a"`)}, wide(api.MaxNodes-6)), api.OK},
		{rooted(list(1, 1), entries(2, 3), text("a"), integer("1")), set(api.Path{item(0), value(`"a"`)}, wide(api.MaxNodes-5)), api.ErrMany},
		{parsed(t, "{}"), insert(api.Path{value("[1]")}, wide(api.MaxNodes-3)), api.OK},
		{parsed(t, "<>"), insert(api.Path{value("[1]")}, wide(api.MaxNodes-2)), api.ErrMany},
		// Depth.
		{tower(4), set(slices.Repeat(api.Path{item(0)}, 4), tower(api.MaxDepth-4)), api.OK},
		{tower(4), set(slices.Repeat(api.Path{item(0)}, 4), tower(api.MaxDepth-3)), api.ErrDeep},
		{tower(api.MaxDepth), insert(slices.Repeat(api.Path{item(0)}, api.MaxDepth+1), parsed(t, "1")), api.ErrDeep},
		{tower(api.MaxDepth), insert(append(slices.Repeat(api.Path{item(0)}, api.MaxDepth-1), item(1)), parsed(t, "1")), api.OK},
		{parsed(t, "{}"), insert(api.Path{value(strings.Repeat("[", 32) + strings.Repeat("]", 32))}, parsed(t, "1")), api.OK},
		{parsed(t, "{}"), insert(api.Path{value(strings.Repeat("[", 33) + strings.Repeat("]", 33))}, parsed(t, "1")), api.ErrDeep},
		{parsed(t, "{}"), insert(api.Path{value(strings.Repeat("[", 34) + strings.Repeat("]", 34))}, parsed(t, "1")), api.ErrKey},
		{wide(4000), insert(api.Path{item(0)}, tower(api.MaxDepth)), api.ErrDeep},
		{wide(4090), insert(api.Path{item(0)}, tower(api.MaxDepth)), api.ErrMany},
	} {
		wantError(t, row.g, row.c, row.e)
	}
}
