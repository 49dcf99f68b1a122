package keytext

import (
	"cmp"
	"slices"
	"strings"

	"rosetta/api"
	"rosetta/binary"
	"rosetta/decimal"
	"rosetta/integer"
)

// entry is an entry of a map: the nodes of its key and of its value.
type entry struct{ key, item int }

// Parts returns the items of a node, and in maps the key of each entry before its value.
func Parts(n api.Node) []int {
	parts := make([]int, 0, len(n.Keys)+len(n.Items))
	for i, item := range n.Items {
		if n.Kind == api.Map {
			parts = append(parts, n.Keys[i])
		}
		parts = append(parts, item)
	}
	return parts
}

// Sorted returns a copy of the nodes of a valid graph in which the entries of unordered maps are sorted by their keys. The nodes keep their numbers.
func Sorted(g api.Graph) []api.Node {
	nodes := make([]api.Node, len(g.Nodes))
	visited := make([]bool, len(g.Nodes))
	var visit func(node int)
	visit = func(node int) {
		if visited[node] {
			return
		}
		visited[node] = true
		n := g.Nodes[node]
		// The maps within the keys come first, since sorting compares their entries.
		for _, part := range Parts(n) {
			visit(part)
		}
		n.Keys, n.Items = slices.Clone(n.Keys), slices.Clone(n.Items)
		if n.Kind == api.Map && !n.Ordered {
			sortEntries(nodes, n)
		}
		nodes[node] = n
	}
	visit(g.Root)
	return nodes
}

// sortEntries sorts the entries of a map by their keys, in place.
func sortEntries(nodes []api.Node, n api.Node) {
	entries := make([]entry, len(n.Keys))
	for i := range entries {
		entries[i] = entry{n.Keys[i], n.Items[i]}
	}
	slices.SortFunc(entries, func(a, b entry) int { return Compare(nodes, a.key, b.key) })
	for i, e := range entries {
		n.Keys[i], n.Items[i] = e.key, e.item
	}
}

// Compare compares the values of two nodes, neither of which reaches a cycle, in the order of layer 11. The entries of unordered maps must be sorted.
//
// It takes the time of the unfolded values, unless equal values are the same node.
func Compare(nodes []api.Node, a, b int) int {
	if a == b {
		return 0
	}
	x, y := nodes[a], nodes[b]
	if order := compareLabels(x, y); order != 0 {
		return order
	}
	return slices.CompareFunc(Parts(x), Parts(y), func(p, q int) int { return Compare(nodes, p, q) })
}

// compareLabels compares two nodes without their parts.
func compareLabels(x, y api.Node) int {
	switch {
	case x.Kind != y.Kind:
		return cmp.Compare(x.Kind, y.Kind)
	case x.Ordered != y.Ordered && y.Ordered:
		return -1
	case x.Ordered != y.Ordered:
		return 1
	}
	switch x.Kind {
	case api.Int:
		return integer.Cmp(x.Text, y.Text)
	case api.Dec:
		return decimal.Cmp(x.Text, y.Text)
	case api.Float:
		return compareFloats(x.Text, y.Text)
	}
	// The texts of Bools are in the order of their values.
	return strings.Compare(x.Text, y.Text)
}

func compareFloats(a, b string) int {
	if order, ok := binary.Cmp(a, b); ok && order != 0 {
		return order
	}
	switch {
	case a == b:
		return 0
	case a == "nan":
		return 1
	case b == "nan":
		return -1
	}
	// These are the two zeros, of which the one with the sign is less, as their texts are.
	return strings.Compare(a, b)
}
