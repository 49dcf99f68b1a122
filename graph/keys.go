package graph

import (
	"slices"
	"strconv"
	"strings"

	"rosetta/api"
)

// shape is what makes two nodes of keys equal, with the classes of the nodes to which they refer.
type shape struct {
	kind    int
	text    string
	ordered bool
	parts   string
}

// haveEqualKeys reports whether a map has two equal keys. The nodes of keys must form trees.
func haveEqualKeys(nodes []api.Node) bool {
	class := classes(nodes)
	for _, node := range nodes {
		numbers := mapped(node.Keys, class)
		slices.Sort(numbers)
		if len(slices.Compact(numbers)) < len(node.Keys) {
			return true
		}
	}
	return false
}

// classes returns a function that numbers the nodes of keys: equal keys have equal numbers, and different ones different numbers. That function remembers the numbers, because the nodes of a key may belong to further keys.
func classes(nodes []api.Node) func(node int) int {
	numbers := map[shape]int{}
	known := map[int]int{}
	var class func(node int) int
	class = func(node int) int {
		if number, ok := known[node]; ok {
			return number
		}
		n := nodes[node]
		parts := make([]string, len(n.Items))
		for i, item := range n.Items {
			parts[i] = strconv.Itoa(class(item))
			if n.Kind == api.Map {
				parts[i] = strconv.Itoa(class(n.Keys[i])) + "=" + parts[i]
			}
		}
		if n.Kind == api.Map && !n.Ordered {
			slices.Sort(parts)
		}
		s := shape{n.Kind, n.Text, n.Ordered, strings.Join(parts, ",")}
		number, ok := numbers[s]
		if !ok {
			number = len(numbers)
			numbers[s] = number
		}
		known[node] = number
		return number
	}
	return class
}
