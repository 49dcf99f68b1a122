package canon_test

import (
	"math/rand"
	"strings"
	"testing"

	"rosetta/api"
	"rosetta/canon"
	"rosetta/graph"
)

// wantNoKey checks that a text is not a key text.
func wantNoKey(t *testing.T, s string, want api.Errno) {
	t.Helper()
	if g, e := canon.ParseKey(s); e != want || !identical(g, api.Graph{}) {
		t.Errorf("ParseKey(%.100q) = %s, %d; want %d", s, show(g), e, want)
	}
}

func TestTextsThatAreNoKeys(t *testing.T) { // P11.1
	for _, s := range []string{
		"", " ", "1 ", " 1", "1,2", "1]", "01", "-0", "+1", "1.5", "1e", "10e0", "0e1", "-0e0", "1E0", "2p0", "p0", "1p", "-nan", "+inf", "NaN", "Null", "nul", "nullnull", "True", "yes", "a",
		"9" + strings.Repeat("9", api.MaxDigits), "1e2001", "1p1024",
		`"`, `"a`, `"a"b`, `"a""b"`, `"\a"`, `"\`, `"\"`, `"a\`, `'a'`, "\"\xff\"", "\"\xed\xa0\x80\"", `\"a"`,
		"#0", "#0G", "#0A", "#FF", "#00 ", "# ", "#000", "0#",
		"@", "@2026-11-20", "@2026-11-20T09:46:38", "@2026-11-20T09:46:38.50Z", "@2026-02-29T00:00:00Z", "@null", "2026-11-20T09:46:38Z",
		"%", "%2026-11-20T09:46:38Z", "%24:00:00", "%09:46", "2026-11-20",
		"[", "]", "[1", "[1,", "[1,]", "[,1]", "[,]", "[1 ,2]", "[1, 2]", "[1}", "[1)", "[1=2]", "[[]", "[]]", "[1][2]", "[1;2]",
		"{", "}", "{1", "{1}", "{1=", "{1=}", "{=1}", "{1=2", "{1=2,", "{1=2,}", "{,1=2}", "{1=2]", "{1=2>", "{1:2}", "{1=2=3}", "{1=2 }", "{ }", "{1=2;3=4}", "{1,2}",
		"<", ">", "<1>", "<1=2}", "<1=2", "<1=2,>", "<1=>", "< >",
		"!", "!t", "!t(", "!t()", "!t(1", "!t(1]", "!t(1,2)", "!(1)", "! (1)", "!é(1)", "!t (1)", "!t(1) ", "!t((1))", "t(1)", "!t[1]", "!" + strings.Repeat("t", api.MaxName+1) + "(1)",
		// Entries in another order, and equal keys.
		`{"b"=1,"a"=2}`, "{10=1,9=1}", `{"a"=1,1=1}`, `{{"b"=1,"a"=1}=1}`, "{1=1,1=2}", "<1=1,1=2>", "<1=1,2=1,1=1>", "{[]=1,{}=1,<>=1,[]=1}", "{[nan,10]=1,[nan,9]=1}", "{[nan,1]=1,[inf,1]=1}", "{[0p0]=1,[-0p0]=1}",
		"[" + `{"b"=1,"a"=2}` + "]", "!t(" + `{"b"=1,"a"=2}` + ")", `<1={"b"=1,"a"=2}>`,
		"[\x00]", "\x00", "1\x00", "(1)", "(", ")", "=", ",",
	} {
		wantNoKey(t, s, api.ErrSyntax)
	}
	for _, s := range []string{"!" + strings.Repeat("t", api.MaxName) + "(1)", "{[]=1,{}=1,<>=1}", `<{"a"=1,"b"=1}=1,"b"=2,"a"=1>`, "{[-0p0,1]=1,[0p0,0]=1,[inf,1]=1,[nan,9]=1,[nan,10]=1}", `{1=1,"a"=1}`, "1e2000", "1p1023", `"\"\\"`} {
		wantKey(t, parsed(t, s), s)
	}
}

func TestLimitsOfParsing(t *testing.T) { // P11.1: valid trees only, and at most MaxSource bytes
	nested := func(opening, middle, closing string, depth int) string {
		return strings.Repeat(opening, depth) + middle + strings.Repeat(closing, depth)
	}
	for _, row := range [][2]string{
		{nested("[", "1", "]", api.MaxDepth), nested("[", "1", "]", api.MaxDepth+1)},
		{nested("!t(", "[]", ")", api.MaxDepth), nested("!t(", "[]", ")", api.MaxDepth+1)},
		{nested("{1=", "null", "}", api.MaxDepth), nested("{1=", "null", "}", api.MaxDepth+1)},
		{nested("<", "1", "=1>", api.MaxDepth), nested("<", "1", "=1>", api.MaxDepth+1)},
		{"[" + strings.Repeat("1,", api.MaxNodes-2) + "1]", "[" + strings.Repeat("1,", api.MaxNodes-1) + "1]"},
		{"[[" + strings.Repeat("1,", api.MaxNodes-3) + "1]]", "[[" + strings.Repeat("1,", api.MaxNodes-2) + "1]]"},
		{`"` + strings.Repeat("a", api.MaxSource-2) + `"`, `"` + strings.Repeat("a", api.MaxSource-3) + `\"`},
	} {
		g := parsed(t, row[0])
		if graph.Check(g) != api.OK || !identical(g, referenceTree(unfold(g, 0))) {
			t.Errorf("ParseKey(%.50q) = %s", row[0], show(g))
		}
		if s, e := canon.Key(g); s != row[0] || e != api.OK {
			t.Errorf("Key of ParseKey(%.50q): %.50q, %d", row[0], s, e)
		}
		wantNoKey(t, row[1], api.ErrSyntax)
	}
	wantNoKey(t, `"`+strings.Repeat("a", api.MaxSource-1)+`"`, api.ErrLong)
	wantNoKey(t, strings.Repeat("[", api.MaxSource+1), api.ErrLong)
	wantNoKey(t, strings.Repeat("[", api.MaxSource), api.ErrSyntax)
	wantNoKey(t, strings.Repeat("!", api.MaxSource), api.ErrSyntax)
	wantNoKey(t, strings.Repeat("{", api.MaxSource), api.ErrSyntax)
}

// All texts over smallAlphabet with at most allTextsSize bytes are tried.
const (
	smallAlphabet = `1e"\#[]{}<>!(),=`
	allTextsSize  = 5
)

// keysOfSize returns all trees of a small language whose key texts have the given number of bytes, by their texts.
func keysOfSize(size int, known map[int]map[string]*tree) map[string]*tree {
	if all, ok := known[size]; ok {
		return all
	}
	all := map[string]*tree{}
	add := func(v *tree) {
		g := referenceTree(v)
		if s := referenceKey(v); len(s) == size && graph.Check(g) == api.OK {
			all[s] = v
		}
	}
	add(&tree{kind: api.Int, text: strings.Repeat("1", size)})
	for exponent := 1; exponent <= min(4, size-2); exponent++ {
		add(&tree{kind: api.Dec, text: strings.Repeat("1", size-1-exponent) + "e" + strings.Repeat("1", exponent)})
	}
	characters := smallAlphabet
	if size > allTextsSize {
		characters = `1"\` // not so many texts
	}
	for _, s := range textsOver(characters, size-2) {
		add(&tree{kind: api.Text, text: s})
	}
	for _, s := range textsOver("\x11\x1e\xe1\xee", size/2) {
		add(&tree{kind: api.Bytes, text: s})
	}
	known[size] = all
	for _, parts := range sequences(size-2, 1, known) {
		add(&tree{kind: api.List, items: parts})
	}
	for _, name := range textsOver("1e", size) {
		for _, v := range keysUpTo(size-3-len(name), known) {
			add(&tree{kind: api.Tag, text: name, items: []*tree{v}})
		}
	}
	for _, parts := range sequences(size-2, 2, known) {
		for _, ordered := range []bool{false, true} {
			m := &tree{kind: api.Map, ordered: ordered}
			for i := 0; i < len(parts); i += 2 {
				m.keys = append(m.keys, parts[i])
				m.items = append(m.items, parts[i+1])
			}
			add(m)
		}
	}
	return all
}

// keysUpTo returns the trees of one size as a list.
func keysUpTo(size int, known map[int]map[string]*tree) []*tree {
	if size < 1 {
		return nil
	}
	var all []*tree
	for _, v := range keysOfSize(size, known) {
		all = append(all, v)
	}
	return all
}

// sequences returns the sequences of trees whose texts, with a byte between each two of them, have the given size; their number is a multiple of each.
func sequences(size, each int, known map[int]map[string]*tree) [][]*tree {
	if size == 0 {
		return [][]*tree{nil}
	}
	var all [][]*tree
	var extend func(start []*tree, rest int)
	extend = func(start []*tree, rest int) {
		for first := 1; first <= rest; first++ {
			for _, v := range keysUpTo(first, known) {
				next := append(start[:len(start):len(start)], v)
				if first == rest && len(next)%each == 0 {
					all = append(all, next)
				}
				extend(next, rest-first-1)
			}
		}
	}
	extend(nil, size)
	return all
}

// textsOver returns all texts of up to size bytes of an alphabet.
func textsOver(alphabet string, size int) []string {
	all := []string{""}
	last := all
	for range max(size, 0) {
		var next []string
		for _, s := range last {
			for i := range len(alphabet) {
				next = append(next, s+alphabet[i:i+1])
			}
		}
		all = append(all, next...)
		last = next
	}
	return all
}

func TestAllShortTexts(t *testing.T) { // P11.1: ParseKey accepts exactly the key texts
	known := map[int]map[string]*tree{}
	count := 0
	for _, s := range textsOver(smallAlphabet, allTextsSize) {
		var v *tree
		if s != "" {
			v = keysOfSize(len(s), known)[s]
		}
		g, e := canon.ParseKey(s)
		if v == nil && (e != api.ErrSyntax || !identical(g, api.Graph{})) || v != nil && (e != api.OK || !identical(g, referenceTree(v))) {
			t.Fatalf("ParseKey(%q) = %s, %d; want a value: %t", s, show(g), e, v != nil)
		}
		if v != nil {
			count++
		}
	}
	total := 0
	for size := 1; size <= allTextsSize; size++ {
		total += len(keysOfSize(size, known))
	}
	if count < 150 || count != total {
		t.Errorf("%d of %d key texts were tried", count, total)
	}
	for size := allTextsSize + 1; size <= 8; size++ {
		for s, v := range keysOfSize(size, known) {
			if g, e := canon.ParseKey(s); e != api.OK || !identical(g, referenceTree(v)) {
				t.Fatalf("ParseKey(%q) = %s, %d; want %s", s, show(g), e, show(referenceTree(v)))
			}
		}
	}
}

func TestChangedKeys(t *testing.T) { // P11.1: a text that is changed is still the key text of what is read, or not accepted
	random := rand.New(rand.NewSource(2))
	accepted := 0
	for range 30000 {
		g := validGraph(random, 12, false)
		s := []byte(referenceKey(unfold(g, g.Root)))
		at := random.Intn(len(s))
		switch random.Intn(3) {
		case 0:
			s[at] = `1e"\#[]{}<>!(),=a0-@%`[random.Intn(21)]
		case 1:
			s = append(s[:at], s[at+1:]...)
		case 2:
			other := random.Intn(len(s))
			s[at], s[other] = s[other], s[at]
		}
		v, e := canon.ParseKey(string(s))
		if e == api.OK {
			accepted++
			if graph.Check(v) != api.OK || v.Root != 0 || !identical(v, referenceTree(unfold(v, 0))) || referenceKey(unfold(v, 0)) != string(s) {
				t.Fatalf("ParseKey(%q) = %s", s, show(v))
			}
		} else if e != api.ErrSyntax || !identical(v, api.Graph{}) {
			t.Fatalf("ParseKey(%q) = %s, %d", s, show(v), e)
		}
	}
	if accepted < 1000 {
		t.Errorf("only %d texts were accepted", accepted)
	}
}
