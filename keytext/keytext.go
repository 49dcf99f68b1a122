// Package keytext writes, reads and orders the key texts of values (layer 11) without a limit of their length. Package canon adds the limit; the other layers, for which there is none, use this package.
package keytext

import (
	"math"

	"rosetta/api"
	"rosetta/armor"
)

// Of returns the key text of the value of a node, which reaches no cycle. The entries of unordered maps must be sorted.
func Of(nodes []api.Node, node int) string {
	text, _ := Within(nodes, node, math.MaxInt)
	return text
}

// Within returns the text that Of returns, and true, if it has at most the given number of bytes. It takes no longer than this needs, however long the text of a value with shared nodes is.
func Within(nodes []api.Node, node, most int) (string, bool) {
	w := writer{nodes: nodes, most: most}
	w.value(node)
	if len(w.text) > most {
		return "", false
	}
	return string(w.text), true
}

// writer appends key texts to a text until it is longer than allowed.
type writer struct {
	nodes []api.Node
	most  int
	text  []byte
}

func (w *writer) add(s string) { w.text = append(w.text, s...) }

func (w *writer) value(node int) {
	n := w.nodes[node]
	switch n.Kind {
	case api.Null:
		w.add("null")
	case api.Text:
		w.quoted(n.Text)
	case api.Bytes:
		w.add("#")
		w.add(armor.Hex(n.Text))
	case api.Instant:
		w.add("@")
		w.add(n.Text)
	case api.Local:
		w.add("%")
		w.add(n.Text)
	case api.List:
		w.parts("[", n, "]")
	case api.Map:
		w.entries(n)
	case api.Tag:
		w.add("!")
		w.add(n.Text)
		w.parts("(", n, ")")
	default:
		w.add(n.Text)
	}
}

func (w *writer) quoted(text string) {
	w.add(`"`)
	for i := range len(text) {
		if text[i] == '"' || text[i] == '\\' {
			w.add(`\`)
		}
		w.text = append(w.text, text[i])
	}
	w.add(`"`)
}

func (w *writer) entries(n api.Node) {
	if n.Ordered {
		w.parts("<", n, ">")
	} else {
		w.parts("{", n, "}")
	}
}

// parts appends the items or entries of a node between two marks.
func (w *writer) parts(opening string, n api.Node, closing string) {
	w.add(opening)
	for i, item := range n.Items {
		if len(w.text) > w.most {
			return
		}
		if i > 0 {
			w.add(",")
		}
		if n.Kind == api.Map {
			w.value(n.Keys[i])
			w.add("=")
		}
		w.value(item)
	}
	w.add(closing)
}
