package change_test

import (
	"slices"
	"testing"

	"rosetta/api"
	"rosetta/canon"
	"rosetta/change"
	"rosetta/equal"
	"rosetta/share"
)

// The steps and changes of which the tests consist.

func item(index int) api.Step      { return api.Step{Index: index} }
func value(key string) api.Step    { return api.Step{Key: key} }
func remove(p api.Path) api.Change { return api.Change{Op: api.Remove, Path: p} }
func set(p api.Path, v api.Graph) api.Change {
	return api.Change{Op: api.Set, Path: p, Value: v}
}
func insert(p api.Path, v api.Graph) api.Change {
	return api.Change{Op: api.Insert, Path: p, Value: v}
}

// wantChange checks what all functions return for a value and a change, and returns the result and whether the change can be performed.
func wantChange(t *testing.T, g api.Graph, c api.Change) (api.Graph, bool) {
	t.Helper()
	want := referenceApply(g, c)
	if e := change.Check(g, c); e != want.e {
		t.Fatalf("Check(%s, %s) = %d; want %d", show(g), describe(c), e, want.e)
	}
	got, e := change.Apply(g, c)
	if e != want.e || !identical(got, want.g) {
		t.Fatalf("Apply(%s, %s)\n = %s, %d\nwant %s, %d", show(g), describe(c), show(got), e, show(want.g), want.e)
	}
	inverse, e := change.Invert(g, c)
	if e != want.e {
		t.Fatalf("Invert(%s, %s): %d; want %d", show(g), describe(c), e, want.e)
	}
	if e != api.OK {
		if !identicalChanges(inverse, api.Change{}) {
			t.Fatalf("Invert(%s, %s) = %s beside an error", show(g), describe(c), describe(inverse))
		}
		return api.Graph{}, false
	}
	if r := referenceInverse(g, c); !identicalChanges(inverse, r) {
		t.Fatalf("Invert(%s, %s)\n = %s\nwant %s", show(g), describe(c), describe(inverse), describe(r))
	}
	wantUndone(t, g, c, inverse)
	return got, true
}

// wantUndone checks that the inverse of a change undoes it.
func wantUndone(t *testing.T, g api.Graph, c, inverse api.Change) {
	t.Helper()
	back, e := change.Apply(g, c, inverse)
	if e != api.OK {
		// Only copies can make the second result too large or too deep.
		if share.Tree(g) || e != api.ErrMany && e != api.ErrDeep {
			t.Fatalf("Apply(%s, %s and its inverse): %d", show(g), describe(c), e)
		}
		return
	}
	normal, _ := canon.Normal(g)
	if !equal.Equal(back, g) || share.Tree(g) && !identical(back, normal) {
		t.Fatalf("Apply(%s, %s and its inverse) = %s", show(g), describe(c), show(back))
	}
}

func TestExamples(t *testing.T) { // P15.1, P15.2: the document's examples
	shared := rooted(list(1, 1), list(2), integer("7"))
	c := set(api.Path{item(0), item(0)}, parsed(t, "8"))
	g, e := change.Apply(shared, c)
	if want := rooted(list(1, 3), list(2), integer("8"), list(4), integer("7")); e != api.OK || !identical(g, want) {
		t.Errorf("Set in a shared list: %s, %d", show(g), e)
	}
	inverse, e := change.Invert(shared, c)
	if e != api.OK || !identicalChanges(inverse, set(c.Path, parsed(t, "7"))) {
		t.Errorf("inverse of Set in a shared list: %s, %d", describe(inverse), e)
	}
	g, e = change.Apply(shared, c, inverse)
	if e != api.OK || !identical(g, parsed(t, "[[7],[7]]")) {
		t.Errorf("Set and its inverse: %s, %d", show(g), e)
	}
	inverse, e = change.Invert(parsed(t, `<"a"=1,"b"=[2],"c"=3>`), remove(api.Path{value(`"b"`)}))
	if e != api.OK || !identicalChanges(inverse, insert(api.Path{{Index: 1, Key: `"b"`}}, parsed(t, "[2]"))) {
		t.Errorf("inverse of Remove in an ordered map: %s, %d", describe(inverse), e)
	}
	two := parsed(t, "[1,2]")
	for _, row := range []struct {
		c api.Change
		e api.Errno
	}{
		{insert(api.Path{item(3)}, parsed(t, "3")), api.ErrRange},
		{remove(api.Path{item(2)}), api.ErrNone},
		{insert(api.Path{value(`"a"`)}, parsed(t, "3")), api.ErrKind},
	} {
		if e := change.Check(two, row.c); e != row.e {
			t.Errorf("Check(%s) = %d; want %d", describe(row.c), e, row.e)
		}
	}
}

func TestApply(t *testing.T) { // P15.1
	for _, row := range []struct {
		g, v, want string
		op         int
		p          api.Path
	}{
		{"[1,[2,3]]", "{}", "{}", api.Set, nil},
		{"[1,[2,3]]", "{}", "[{},[2,3]]", api.Set, api.Path{item(0)}},
		{"[1,[2,3]]", "{}", "[1,[2,{}]]", api.Set, api.Path{item(1), item(1)}},
		{"!t(1)", "2", "!t(2)", api.Set, api.Path{item(0)}},
		{"!t(!u([1]))", "2", "!t(!u([1,2]))", api.Insert, api.Path{item(0), item(0), item(1)}},
		{"!t(!u([1]))", "", "!t(!u([]))", api.Remove, api.Path{item(0), item(0), item(0)}},
		{"[]", "1", "[1]", api.Insert, api.Path{item(0)}},
		{"[1,2]", "3", "[3,1,2]", api.Insert, api.Path{item(0)}},
		{"[1,2]", "3", "[1,3,2]", api.Insert, api.Path{item(1)}},
		{"[1,2]", "3", "[1,2,3]", api.Insert, api.Path{item(2)}},
		{"[1,2,3]", "", "[1,3]", api.Remove, api.Path{item(1)}},
		{"[1,2,3]", "", "[1,2]", api.Remove, api.Path{item(2)}},
		// Entries of unordered maps are found by their keys, whatever the Index is, and have no position.
		{`{"a"=1,"b"=2}`, "3", `{"a"=1,"b"=3}`, api.Set, api.Path{{Index: -7, Key: `"b"`}}},
		{`{"a"=1,"b"=[2]}`, "3", `{"a"=1,"b"=[2,3]}`, api.Insert, api.Path{{Index: 9, Key: `"b"`}, item(1)}},
		{`{"a"=1,"b"=2}`, "", `{"b"=2}`, api.Remove, api.Path{{Index: 5, Key: `"a"`}}},
		{`{"a"=1,"c"=2}`, "3", `{"a"=1,"b"=3,"c"=2}`, api.Insert, api.Path{value(`"b"`)}},
		{`{9=1}`, "3", `{9=1,10=3}`, api.Insert, api.Path{value("10")}},
		{`{10=1}`, "3", `{9=3,10=1}`, api.Insert, api.Path{value("9")}},
		{"{}", "{1=2}", "{{1=2}={1=2}}", api.Insert, api.Path{value("{1=2}")}},
		// Entries of ordered maps have one.
		{`<"a"=1,"b"=2>`, "3", `<"a"=1,"b"=3>`, api.Set, api.Path{{Index: 7, Key: `"b"`}}},
		{`<"a"=1,"b"=2,"c"=3>`, "", `<"a"=1,"c"=3>`, api.Remove, api.Path{{Index: -1, Key: `"b"`}}},
		{`<"b"=1,"a"=2>`, "3", `<[]=3,"b"=1,"a"=2>`, api.Insert, api.Path{{Index: 0, Key: "[]"}}},
		{`<"b"=1,"a"=2>`, "3", `<"b"=1,[]=3,"a"=2>`, api.Insert, api.Path{{Index: 1, Key: "[]"}}},
		{`<"b"=1,"a"=2>`, "3", `<"b"=1,"a"=2,[]=3>`, api.Insert, api.Path{{Index: 2, Key: "[]"}}},
		// Keys of all kinds.
		{`{{"a"=[1],"b"=<>}=1}`, "2", `{{"a"=[1],"b"=<>}=2}`, api.Set, api.Path{value(`{"a"=[1],"b"=<>}`)}},
		{`{"a\"b"=[],!t(#00)=1}`, "2", `{"a\"b"=[2],!t(#00)=1}`, api.Insert, api.Path{value(`"a\"b"`), item(0)}},
	} {
		g, c := parsed(t, row.g), api.Change{Op: row.op, Path: row.p}
		if row.v != "" {
			c.Value = parsed(t, row.v)
		}
		got, ok := wantChange(t, g, c)
		if !ok || !identical(got, parsed(t, row.want)) {
			t.Errorf("Apply(%s, %s) = %s", row.g, describe(c), show(got))
		}
	}
}

func TestNormalForm(t *testing.T) { // P15.1, P15.2: results are in normal form, whatever the numbers of the nodes and the order of unordered entries are
	g := api.Graph{Nodes: []api.Node{integer("1"), text("b"), text("a"), list(0), entries(1, 3, 2, 3)}, Root: 4}
	v := api.Graph{Nodes: []api.Node{integer("2"), list(0, 0)}, Root: 1}
	for _, row := range []struct {
		l    []api.Change
		want api.Graph
	}{
		{nil, rooted(entries(1, 2, 4, 2), text("a"), list(3), integer("1"), text("b"))},
		{[]api.Change{set(nil, v)}, rooted(list(1, 1), integer("2"))},
		{[]api.Change{set(api.Path{value(`"b"`)}, v)}, rooted(entries(1, 2, 4, 5), text("a"), list(3), integer("1"), text("b"), list(6, 6), integer("2"))},
		{[]api.Change{insert(api.Path{value(`"aa"`)}, v)}, rooted(entries(1, 2, 4, 5, 7, 2), text("a"), list(3), integer("1"), text("aa"), list(6, 6), integer("2"), text("b"))},
	} {
		got, e := change.Apply(g, row.l...)
		if e != api.OK || !identical(got, row.want) {
			t.Errorf("Apply = %s, %d; want %s", show(got), e, show(row.want))
		}
	}
	inverse, e := change.Invert(g, set(nil, v))
	normal, _ := canon.Normal(g)
	if e != api.OK || !identicalChanges(inverse, set(nil, normal)) {
		t.Errorf("Invert = %s, %d", describe(inverse), e)
	}
}

func TestOccurrences(t *testing.T) { // P15.1: only one occurrence of a shared node changes, and a cycle is left where the path ends
	seven, eight := integer("7"), parsed(t, "8")
	for _, row := range []struct {
		g    api.Graph
		c    api.Change
		want api.Graph
	}{
		{rooted(list(1, 1), list(2), seven), insert(api.Path{item(1), item(0)}, eight), rooted(list(1, 3), list(2), seven, list(4, 2), integer("8"))},
		{rooted(list(1, 1), list(2), seven), remove(api.Path{item(0), item(0)}), rooted(list(1, 2), list(), list(3), seven)},
		{rooted(list(1, 1), list(2), seven), remove(api.Path{item(0)}), rooted(list(1), list(2), seven)},
		// The keys of a map that is there twice are copied.
		{rooted(list(1, 1), entries(2, 3), list(4), seven, text("k")), set(api.Path{item(0), value(`["k"]`)}, eight), rooted(list(1, 5), entries(2, 4), list(3), text("k"), integer("8"), entries(6, 8), list(7), text("k"), seven)},
		{rooted(list(1, 1), entries(2, 3), text("k"), seven), insert(api.Path{item(1), value(`"j"`)}, eight), rooted(list(1, 4), entries(2, 3), text("k"), seven, entries(5, 6, 7, 3), text("j"), integer("8"), text("k"))},
		{rooted(list(1, 1), entries(2, 3), text("k"), seven), remove(api.Path{item(1), value(`"k"`)}), rooted(list(1, 4), entries(2, 3), text("k"), seven, entries())},
		// Cycles.
		{rooted(list(0)), set(api.Path{item(0)}, eight), rooted(list(1), integer("8"))},
		{rooted(list(0)), set(api.Path{item(0), item(0), item(0)}, eight), rooted(list(1), list(2), list(3), integer("8"))},
		{rooted(list(0)), insert(api.Path{item(1)}, eight), rooted(list(1, 2), list(1), integer("8"))},
		{rooted(list(0)), insert(api.Path{item(0), item(0)}, eight), rooted(list(1), list(2, 3), integer("8"), list(3))},
		{rooted(list(0)), remove(api.Path{item(0), item(0)}), rooted(list(1), list())},
		{rooted(list(0, 1), seven), set(api.Path{item(0), item(1)}, eight), rooted(list(1, 3), list(2, 4), list(2, 3), seven, integer("8"))},
		{rooted(tag("t", 0)), set(api.Path{item(0), item(0)}, eight), rooted(tag("t", 1), tag("t", 2), integer("8"))},
		{rooted(entries(1, 0), text("k")), insert(api.Path{value(`"k"`), value(`"j"`)}, eight), rooted(entries(1, 2), text("k"), entries(3, 4, 5, 6), text("j"), integer("8"), text("k"), entries(7, 6), text("k"))},
	} {
		got, ok := wantChange(t, row.g, row.c)
		if !ok || !identical(got, row.want) {
			t.Errorf("Apply(%s, %s)\n = %s\nwant %s", show(row.g), describe(row.c), show(got), show(row.want))
		}
	}
}

func TestSequences(t *testing.T) { // P15.1: changes are performed one after another, and the first error counts
	g := parsed(t, "[1]")
	one := parsed(t, "1")
	first, second := insert(api.Path{item(1)}, parsed(t, "{}")), insert(api.Path{item(1), value("2")}, parsed(t, "3"))
	for _, row := range []struct {
		l    []api.Change
		want string
		e    api.Errno
	}{
		{nil, "[1]", api.OK},
		{[]api.Change{first, second}, "[1,{2=3}]", api.OK},
		{[]api.Change{second, first}, "", api.ErrNone},
		{[]api.Change{first, second, second}, "", api.ErrTwice},
		{[]api.Change{first, first, second}, "[1,{2=3},{}]", api.OK},
		{[]api.Change{first, remove(api.Path{item(1)}), second}, "", api.ErrNone},
		{[]api.Change{first, set(nil, one), second}, "", api.ErrNone},
		{[]api.Change{set(nil, one), insert(api.Path{item(0)}, one)}, "", api.ErrKind},
		{[]api.Change{insert(api.Path{item(2)}, one), {Op: 7}}, "", api.ErrRange},
		{[]api.Change{{Op: 7}, insert(api.Path{item(2)}, one)}, "", api.ErrArg},
	} {
		got, e := change.Apply(g, row.l...)
		want := api.Graph{}
		if row.e == api.OK {
			want = parsed(t, row.want)
		}
		if e != row.e || !identical(got, want) {
			t.Errorf("Apply(%v) = %s, %d; want %s, %d", row.l, show(got), e, row.want, row.e)
		}
	}
	if got, e := change.Apply(rooted(text("\xff"))); e != api.ErrForm || !identical(got, api.Graph{}) {
		t.Errorf("Apply of no changes to an invalid value: %s, %d", show(got), e)
	}
}

func TestInverses(t *testing.T) { // P15.2
	v := parsed(t, "[]")
	for _, row := range []struct {
		g       string
		c, want api.Change
	}{
		{"[1,2]", insert(api.Path{item(1)}, v), remove(api.Path{item(1)})},
		{"[1,2]", insert(api.Path{item(2)}, v), remove(api.Path{item(2)})},
		{"[1,2]", remove(api.Path{item(1)}), insert(api.Path{item(1)}, parsed(t, "2"))},
		{"[[1,2]]", remove(api.Path{item(0), item(0)}), insert(api.Path{item(0), item(0)}, parsed(t, "1"))},
		{"!t(1)", set(api.Path{item(0)}, v), set(api.Path{item(0)}, parsed(t, "1"))},
		// The Index of a step with a Key is kept, but for a last one of Insert and Remove.
		{`{1=2}`, set(api.Path{{Index: 5, Key: "1"}}, v), set(api.Path{{Index: 5, Key: "1"}}, parsed(t, "2"))},
		{`{1=2}`, insert(api.Path{value("2")}, v), remove(api.Path{value("2")})},
		{`<1=2,4=3>`, insert(api.Path{{Index: 2, Key: "2"}}, v), remove(api.Path{value("2")})},
		{`<1=2,4=3>`, remove(api.Path{{Index: 8, Key: "4"}}), insert(api.Path{{Index: 1, Key: "4"}}, parsed(t, "3"))},
		{`<1=2,4=3>`, remove(api.Path{{Index: 8, Key: "1"}}), insert(api.Path{{Index: 0, Key: "1"}}, parsed(t, "2"))},
		{`{1=2,4=3}`, remove(api.Path{{Index: 8, Key: "4"}}), insert(api.Path{value("4")}, parsed(t, "3"))},
		{`{1=<1=2,4=3>}`, remove(api.Path{{Index: 3, Key: "1"}, value("4")}), insert(api.Path{{Index: 3, Key: "1"}, {Index: 1, Key: "4"}}, parsed(t, "3"))},
		{`{1=[2]}`, insert(api.Path{{Index: 3, Key: "1"}, item(0)}, v), remove(api.Path{{Index: 3, Key: "1"}, item(0)})},
		{`{1=[2]}`, remove(api.Path{{Index: -3, Key: "1"}, item(0)}), insert(api.Path{{Index: -3, Key: "1"}, item(0)}, parsed(t, "2"))},
	} {
		inverse, e := change.Invert(parsed(t, row.g), row.c)
		if e != api.OK || !identicalChanges(inverse, row.want) {
			t.Errorf("Invert(%s, %s) = %s, %d; want %s", row.g, describe(row.c), describe(inverse), e, describe(row.want))
		}
		wantChange(t, parsed(t, row.g), row.c)
	}
}

func TestTouches(t *testing.T) { // P15.3
	for _, row := range []struct {
		a, b   int
		p, q   api.Path
		answer bool
	}{
		// One of the paths ends.
		{api.Set, api.Set, nil, nil, true},
		{api.Set, api.Set, nil, api.Path{item(3)}, true},
		{api.Set, api.Set, api.Path{item(3)}, api.Path{item(3)}, true},
		{api.Set, api.Remove, api.Path{item(3)}, api.Path{item(3), value("1")}, true},
		{api.Set, api.Set, api.Path{{Index: 1, Key: "1"}}, api.Path{{Index: 2, Key: "1"}}, true},
		{api.Insert, api.Insert, api.Path{value("1")}, api.Path{value("1")}, true},
		// Items of the same list.
		{api.Set, api.Set, api.Path{item(1)}, api.Path{item(2)}, false},
		{api.Set, api.Insert, api.Path{item(1)}, api.Path{item(2)}, true},
		{api.Set, api.Insert, api.Path{item(2)}, api.Path{item(1)}, true},
		{api.Remove, api.Remove, api.Path{item(1)}, api.Path{item(2)}, true},
		{api.Remove, api.Set, api.Path{item(1)}, api.Path{item(2), item(0)}, true},
		{api.Remove, api.Insert, api.Path{item(1), item(4)}, api.Path{item(2), item(0)}, false},
		{api.Insert, api.Remove, api.Path{item(1), item(4)}, api.Path{item(2)}, true},
		{api.Set, api.Remove, api.Path{item(1), item(4)}, api.Path{item(1), item(5)}, true},
		{api.Set, 4, api.Path{item(1)}, api.Path{item(2)}, false},
		// Entries of the same map.
		{api.Set, api.Set, api.Path{value("1")}, api.Path{value("2")}, false},
		{api.Set, api.Insert, api.Path{value("1")}, api.Path{value("2")}, false},
		{api.Set, api.Remove, api.Path{value("1")}, api.Path{value("2")}, false},
		{api.Remove, api.Remove, api.Path{value("1")}, api.Path{value("2")}, false},
		{api.Remove, api.Insert, api.Path{value("1")}, api.Path{value("2")}, true},
		{api.Insert, api.Remove, api.Path{value("1")}, api.Path{value("2")}, true},
		{api.Insert, api.Insert, api.Path{value("1")}, api.Path{value("2")}, true},
		{api.Insert, api.Insert, api.Path{value("1"), item(0)}, api.Path{value("2")}, false},
		{api.Insert, 4, api.Path{value("1")}, api.Path{value("2")}, false},
		{4, 0, api.Path{value("1")}, api.Path{value("1"), item(2)}, true},
		// Steps with and without a Key.
		{api.Insert, api.Insert, api.Path{value("1")}, api.Path{item(0)}, false},
		{api.Set, api.Remove, api.Path{item(1)}, api.Path{{Index: 1, Key: "1"}}, false},
	} {
		a, b := api.Change{Op: row.a, Path: row.p}, api.Change{Op: row.b, Path: row.q}
		if change.Touches(a, b) != row.answer || change.Touches(b, a) != row.answer {
			t.Errorf("Touches(%s, %s) is not %t", describe(a), describe(b), row.answer)
		}
	}
}

func TestTouchesOfAllShortPaths(t *testing.T) { // P15.3
	steps := []api.Step{item(0), item(1), value("0"), value("1"), {Index: 1, Key: "0"}, {Index: -1}}
	var all []api.Change
	for _, p := range pathsOf(steps, 2) {
		for op := range 5 {
			all = append(all, api.Change{Op: op, Path: p})
		}
	}
	for _, a := range all {
		for _, b := range all {
			if got, want := change.Touches(a, b), referenceTouches(a, b); got != want {
				t.Fatalf("Touches(%s, %s) = %t", describe(a), describe(b), got)
			}
		}
	}
}

// pathsOf returns all paths of at most that many of some steps.
func pathsOf(steps []api.Step, most int) []api.Path {
	all := []api.Path{nil}
	for start, length := 0, 0; length < most; length++ {
		end := len(all)
		for _, p := range all[start:end] {
			for _, step := range steps {
				all = append(all, append(slices.Clone(p), step))
			}
		}
		start = end
	}
	return all
}
