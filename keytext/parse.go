package keytext

import (
	"strings"

	"rosetta/api"
	"rosetta/armor"
	"rosetta/binary"
	"rosetta/decimal"
	"rosetta/graph"
	"rosetta/integer"
)

// failure is the value with which a parser panics when its text is no key text.
type failure struct{}

// Parse returns the tree with this key text, in normal form, and whether there is such a valid tree.
func Parse(s string) (g api.Graph, ok bool) {
	defer func() {
		if cause := recover(); cause != nil {
			if _, known := cause.(failure); !known {
				panic(cause)
			}
			g, ok = api.Graph{}, false
		}
	}()
	p := parser{rest: s}
	p.value()
	tree := api.Graph{Nodes: p.nodes}
	// The parser accepts more than key texts; but each tree has only one of them.
	if graph.Check(tree) != api.OK || Of(Sorted(tree), 0) != s {
		panic(failure{})
	}
	return tree, true
}

// parser reads a value; it numbers the nodes in the order of their beginnings, which is that of the normal form.
type parser struct {
	rest  string
	nodes []api.Node
}

// accept skips a byte if it is the next one, and reports whether it is.
func (p *parser) accept(c byte) bool {
	if p.rest == "" || p.rest[0] != c {
		return false
	}
	p.rest = p.rest[1:]
	return true
}

// expect skips a byte, which must be the next one.
func (p *parser) expect(c byte) {
	if !p.accept(c) {
		panic(failure{})
	}
}

// until skips the bytes before the first one of a set of bytes, or before the end, and returns them.
func (p *parser) until(set string) string {
	end := strings.IndexAny(p.rest, set)
	if end < 0 {
		end = len(p.rest)
	}
	skipped := p.rest[:end]
	p.rest = p.rest[end:]
	return skipped
}

// value reads a value, and returns its node. It gives up when there are too many nodes, so that the depth of its own calls is bounded for texts of any length.
func (p *parser) value() int {
	node := len(p.nodes)
	if node == api.MaxNodes {
		panic(failure{})
	}
	p.nodes = append(p.nodes, api.Node{})
	var n api.Node
	switch {
	case p.accept('['):
		n = p.parts(api.Node{Kind: api.List}, ']')
	case p.accept('{'):
		n = p.parts(api.Node{Kind: api.Map}, '}')
	case p.accept('<'):
		n = p.parts(api.Node{Kind: api.Map, Ordered: true}, '>')
	case p.accept('!'):
		name := p.until("(")
		p.expect('(')
		n = p.parts(api.Node{Kind: api.Tag, Text: name}, ')')
	default:
		n = p.scalar()
	}
	p.nodes[node] = n
	return node
}

// parts reads the items or entries of a node, and the mark that closes them.
func (p *parser) parts(n api.Node, closing byte) api.Node {
	if p.accept(closing) {
		return n
	}
	for {
		if n.Kind == api.Map {
			key := p.value()
			n.Keys = append(n.Keys, key)
			p.expect('=')
		}
		item := p.value()
		n.Items = append(n.Items, item)
		if p.accept(closing) {
			return n
		}
		p.expect(',')
	}
}

func (p *parser) scalar() api.Node {
	if p.accept('"') {
		return api.Node{Kind: api.Text, Text: p.quoted()}
	}
	word := p.until(",=]}>)")
	if word == "" {
		panic(failure{})
	}
	switch rest := word[1:]; word[0] {
	case '#':
		bytes, e := armor.Unhex(rest)
		if e != api.OK {
			panic(failure{})
		}
		return api.Node{Kind: api.Bytes, Text: bytes}
	case '@':
		return api.Node{Kind: api.Instant, Text: rest}
	case '%':
		return api.Node{Kind: api.Local, Text: rest}
	}
	return plain(word)
}

// quoted reads the rest of a text in quotes.
func (p *parser) quoted() string {
	var text []byte
	for {
		text = append(text, p.until(`"\`)...)
		if p.accept('"') {
			return string(text)
		}
		p.expect('\\')
		if p.rest == "" {
			panic(failure{})
		}
		text = append(text, p.rest[0])
		p.rest = p.rest[1:]
	}
}

// plain returns the scalar that is written without a mark.
func plain(word string) api.Node {
	switch {
	case word == "null":
		return api.Node{Kind: api.Null}
	case word == "true", word == "false":
		return api.Node{Kind: api.Bool, Text: word}
	case integer.Valid(word):
		return api.Node{Kind: api.Int, Text: word}
	case decimal.Valid(word):
		return api.Node{Kind: api.Dec, Text: word}
	case binary.Valid(word):
		return api.Node{Kind: api.Float, Text: word}
	}
	panic(failure{})
}
