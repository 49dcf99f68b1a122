package share

import (
	"rosetta/api"
	"rosetta/keytext"
)

// label is what two nodes that match have in common, besides their parts.
type label struct {
	kind    int
	text    string
	ordered bool
}

// signature is the class of a node and those of its parts.
type signature struct {
	class int
	parts string
}

// classes numbers the nodes: two of them have the same number if and only if their values are equal. The entries of unordered maps must be sorted.
//
// It divides the classes as long as some nodes of one class have parts of different classes. Keys are parts like the values, since equal keys are equal values.
func classes(nodes []api.Node) []int {
	class, count := numbered(nodes, func(node int) label {
		n := nodes[node]
		return label{n.Kind, n.Text, n.Ordered}
	})
	for {
		finer, more := numbered(nodes, func(node int) signature {
			return signature{class[node], partClasses(nodes[node], class)}
		})
		if more == count {
			return class
		}
		class, count = finer, more
	}
}

// numbered numbers the nodes by a feature, and returns how many different ones there are.
func numbered[Feature comparable](nodes []api.Node, feature func(node int) Feature) ([]int, int) {
	numbers := map[Feature]int{}
	class := make([]int, len(nodes))
	for node := range nodes {
		f := feature(node)
		number, ok := numbers[f]
		if !ok {
			number = len(numbers)
			numbers[f] = number
		}
		class[node] = number
	}
	return class, len(numbers)
}

// partClasses writes the classes of the parts of a node, each in two bytes, which suffice for MaxNodes classes.
func partClasses(n api.Node, class []int) string {
	parts := keytext.Parts(n)
	text := make([]byte, 0, 2*len(parts))
	for _, part := range parts {
		text = append(text, byte(class[part]>>8), byte(class[part]))
	}
	return string(text)
}
