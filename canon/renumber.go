package canon

import (
	"rosetta/api"
	"rosetta/keytext"
)

// renumber returns the nodes in the order in which they are first visited from the root, with their references renumbered. The given nodes are changed.
func renumber(nodes []api.Node, root int) []api.Node {
	numbers := map[int]int{}
	visited := make([]api.Node, 0, len(nodes))
	var visit func(node int)
	visit = func(node int) {
		if _, ok := numbers[node]; ok {
			return
		}
		numbers[node] = len(visited)
		visited = append(visited, nodes[node])
		for _, part := range keytext.Parts(nodes[node]) {
			visit(part)
		}
	}
	visit(root)
	for _, n := range visited {
		for _, references := range [2][]int{n.Keys, n.Items} {
			for i, reference := range references {
				references[i] = numbers[reference]
			}
		}
	}
	return visited
}
