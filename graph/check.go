package graph

import (
	"iter"

	"rosetta/api"
	"rosetta/binary"
	"rosetta/codepoint"
	"rosetta/decimal"
	"rosetta/instant"
	"rosetta/integer"
)

// isIndex reports whether a number is the index of a node.
func isIndex(nodes []api.Node, number int) bool { return number >= 0 && number < len(nodes) }

// references visits the references of a node.
func references(node api.Node) iter.Seq[int] {
	return func(yield func(int) bool) {
		for _, list := range [2][]int{node.Keys, node.Items} {
			for _, reference := range list {
				if !yield(reference) {
					return
				}
			}
		}
	}
}

// isConnected reports whether all references are indices, and the root reaches all nodes.
func isConnected(g api.Graph) bool {
	if !isIndex(g.Nodes, g.Root) {
		return false
	}
	for _, node := range g.Nodes {
		for reference := range references(node) {
			if !isIndex(g.Nodes, reference) {
				return false
			}
		}
	}
	for _, mark := range reached(g.Nodes, g.Root) {
		if !mark {
			return false
		}
	}
	return true
}

// reached marks the given nodes and all nodes that they reach.
func reached(nodes []api.Node, from ...int) []bool {
	marks := make([]bool, len(nodes))
	var mark func(node int)
	mark = func(node int) {
		if marks[node] {
			return
		}
		marks[node] = true
		for reference := range references(nodes[node]) {
			mark(reference)
		}
	}
	for _, node := range from {
		mark(node)
	}
	return marks
}

// areFormed reports whether every node has the form of its kind.
func areFormed(nodes []api.Node) bool {
	for _, node := range nodes {
		if !isFormed(node) {
			return false
		}
	}
	return true
}

func isFormed(node api.Node) bool {
	keys, items := len(node.Keys), len(node.Items)
	switch node.Kind {
	case api.List:
		return node.Text == "" && !node.Ordered && keys == 0
	case api.Map:
		return node.Text == "" && keys == items
	case api.Tag:
		return isTagName(node.Text) && !node.Ordered && keys == 0 && items == 1
	}
	return isCanonical(node.Kind, node.Text) && !node.Ordered && keys == 0 && items == 0
}

// isTagName reports whether a name consists of 1 to MaxName bytes that are allowed.
func isTagName(name string) bool {
	if name == "" || len(name) > api.MaxName {
		return false
	}
	for i := range len(name) {
		switch c := name[i]; {
		case c >= 'A' && c <= 'Z', c >= 'a' && c <= 'z', c >= '0' && c <= '9', c == '_', c == '-', c == '.', c == ':':
		default:
			return false
		}
	}
	return true
}

// isCanonical reports whether a text is a canonical text of a kind of scalars.
func isCanonical(kind int, text string) bool {
	switch kind {
	case api.Null:
		return text == ""
	case api.Bool:
		return text == "true" || text == "false"
	case api.Int:
		return integer.Valid(text)
	case api.Dec:
		return decimal.Valid(text)
	case api.Float:
		return binary.Valid(text)
	case api.Text:
		_, e := codepoint.Check(text)
		return e == api.OK
	case api.Bytes:
		return true
	case api.Instant:
		_, _, e := instant.Seconds(text)
		return e == api.OK
	case api.Local:
		return instant.Shape(text) != 0
	}
	return false
}

// counts returns how often each node is referenced.
func counts(g api.Graph) []int {
	list := make([]int, len(g.Nodes))
	list[g.Root]++
	for _, node := range g.Nodes {
		for reference := range references(node) {
			list[reference]++
		}
	}
	return list
}

// isTree reports whether no node is referenced more than once.
func isTree(g api.Graph) bool {
	for _, count := range counts(g) {
		if count > 1 {
			return false
		}
	}
	return true
}

// keyNodes marks the nodes of all keys.
func keyNodes(nodes []api.Node) []bool {
	var keys []int
	for _, node := range nodes {
		keys = append(keys, node.Keys...)
	}
	return reached(nodes, keys...)
}

// areKeysApart reports whether every node of a key is referenced exactly once.
func areKeysApart(g api.Graph) bool {
	times := counts(g)
	for i, mark := range keyNodes(g.Nodes) {
		if mark && times[i] != 1 {
			return false
		}
	}
	return true
}
