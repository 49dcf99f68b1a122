package keytext

import (
	"strconv"
	"strings"

	"rosetta/api"
)

// shape is what makes two acyclic values equal; parts holds the numbers of their parts.
type shape struct {
	kind    int
	text    string
	ordered bool
	parts   string
}

// Unite returns one table of the nodes of all graphs, which have no cycles, and the roots in it. Equal values are one node there, keys among them, and the entries of unordered maps are sorted; so Compare looks at each node of shared values only once.
func Unite(graphs ...api.Graph) ([]api.Node, []int) {
	var nodes []api.Node
	numbers := map[shape]int{}
	// add adds a node with its parts numbered already, unless the table has it.
	add := func(n api.Node) int {
		s := shape{n.Kind, n.Text, n.Ordered, list(Parts(n))}
		number, ok := numbers[s]
		if !ok {
			number = len(nodes)
			numbers[s] = number
			nodes = append(nodes, n)
		}
		return number
	}
	var roots []int
	for _, g := range graphs {
		root := visitUp(Sorted(g), g.Root, add)
		roots = append(roots, root)
	}
	return nodes, roots
}

// visitUp gives each node that the root reaches to add, its parts first, with their results as its references; it returns the result for the root. The nodes are changed.
func visitUp(nodes []api.Node, root int, add func(n api.Node) int) int {
	known := map[int]int{}
	var visit func(node int) int
	visit = func(node int) int {
		if number, ok := known[node]; ok {
			return number
		}
		n := nodes[node]
		for _, references := range [2][]int{n.Keys, n.Items} {
			for i, reference := range references {
				references[i] = visit(reference)
			}
		}
		number := add(n)
		known[node] = number
		return number
	}
	return visit(root)
}

// list writes numbers one after another.
func list(numbers []int) string {
	var text strings.Builder
	for _, number := range numbers {
		text.WriteString(strconv.Itoa(number))
		text.WriteByte(',')
	}
	return text.String()
}
