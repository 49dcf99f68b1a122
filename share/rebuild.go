package share

import (
	"rosetta/api"
	"rosetta/keytext"
)

// rebuild returns, in normal form, the graph in which the values of each class are one node; without classes, each reference has a node of its own. The nodes of keys are never shared. The entries of unordered maps must be sorted.
func rebuild(nodes []api.Node, root int, class []int) api.Graph {
	var built []api.Node
	numbers := map[int]int{}
	// add returns the number of the node for a reference to a value, which stands apart from all others or is that of its class.
	var add func(node int, apart bool) int
	add = func(node int, apart bool) int {
		number := len(built)
		if !apart {
			if known, ok := numbers[class[node]]; ok {
				return known
			}
			numbers[class[node]] = number
		}
		n := nodes[node]
		built = append(built, api.Node{Kind: n.Kind, Text: n.Text, Ordered: n.Ordered})
		var keys, items []int
		for i, item := range n.Items {
			if n.Kind == api.Map {
				key := add(n.Keys[i], true)
				keys = append(keys, key)
			}
			value := add(item, apart)
			items = append(items, value)
		}
		built[number].Keys, built[number].Items = keys, items
		return number
	}
	add(root, class == nil)
	return api.Graph{Nodes: built}
}

// unfoldedSize returns the number of nodes of the unfolding of a value without cycles, but no more than MaxNodes + 1, since the number can be too large for an int.
func unfoldedSize(g api.Graph) int {
	sizes := map[int]int{}
	var measure func(node int) int
	measure = func(node int) int {
		if size, ok := sizes[node]; ok {
			return size
		}
		size := 1
		for _, part := range keytext.Parts(g.Nodes[node]) {
			size = min(size+measure(part), api.MaxNodes+1)
		}
		sizes[node] = size
		return size
	}
	return measure(g.Root)
}
