package keytext

import "rosetta/api"

// Renumber returns the nodes that the root reaches, in the order in which they are first visited from it, with their references renumbered. If the entries of unordered maps are sorted, this is the normal form. The given nodes are changed.
func Renumber(nodes []api.Node, root int) []api.Node {
	visited := make([]api.Node, 0, len(nodes))
	// numbers holds the new number of each node that has been visited, counted from 1.
	numbers := make([]int, len(nodes))
	var visit func(node int)
	visit = func(node int) {
		if numbers[node] > 0 {
			return
		}
		visited = append(visited, nodes[node])
		numbers[node] = len(visited)
		for _, part := range Parts(nodes[node]) {
			visit(part)
		}
	}
	visit(root)
	for _, n := range visited {
		for _, references := range [2][]int{n.Keys, n.Items} {
			for i, reference := range references {
				references[i] = numbers[reference] - 1
			}
		}
	}
	return visited
}
