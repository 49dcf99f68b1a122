package graph

import "rosetta/api"

// checked returns the graph of a table and a root if it is valid.
func checked(nodes []api.Node, root int) (api.Graph, api.Errno) {
	g := api.Graph{Nodes: nodes, Root: root}
	if e := Check(g); e != api.OK {
		return api.Graph{}, e
	}
	return g, api.OK
}

// areValid reports whether Check accepts all graphs.
func areValid(graphs ...api.Graph) bool {
	for _, g := range graphs {
		if Check(g) != api.OK {
			return false
		}
	}
	return true
}

// contain returns the value whose root is a container of the given values.
func contain(container api.Node, items ...api.Graph) (api.Graph, api.Errno) {
	if !areValid(items...) {
		return api.Graph{}, api.ErrForm
	}
	nodes, roots, e := join(items...)
	if e != api.OK {
		return api.Graph{}, e
	}
	container.Items = roots
	nodes[0] = container
	return checked(nodes, 0)
}

// join returns a table in which the nodes of the parts follow a free node 0, and the indices of the parts' roots.
func join(parts ...api.Graph) ([]api.Node, []int, api.Errno) {
	size := 1
	for _, part := range parts {
		size += len(part.Nodes)
	}
	// Tested here as well as by Check, since many parts may share the memory of few.
	if size > api.MaxNodes {
		return nil, nil, api.ErrMany
	}
	nodes := make([]api.Node, size)
	roots := make([]int, len(parts))
	at := 1
	for i, part := range parts {
		roots[i] = at + part.Root
		at += copy(nodes[at:], renumber(part.Nodes, shift(at)))
	}
	return nodes, roots, api.OK
}

// prune returns the nodes that a node reaches, in their order, and the new index of this node.
func prune(nodes []api.Node, root int) ([]api.Node, int) {
	marks := reached(nodes, root)
	indices := make([]int, len(nodes))
	var kept []api.Node
	for i, node := range nodes {
		if marks[i] {
			indices[i] = len(kept)
			kept = append(kept, node)
		}
	}
	return renumber(kept, func(reference int) int { return indices[reference] }), indices[root]
}

// renumber returns a table with other references, which shares no memory with the given one.
func renumber(nodes []api.Node, index func(reference int) int) []api.Node {
	renumbered := make([]api.Node, len(nodes))
	copy(renumbered, nodes)
	for i := range renumbered {
		renumbered[i].Keys = mapped(nodes[i].Keys, index)
		renumbered[i].Items = mapped(nodes[i].Items, index)
	}
	return renumbered
}

// mapped returns the images of numbers.
func mapped(numbers []int, image func(number int) int) []int {
	if len(numbers) == 0 {
		return nil
	}
	images := make([]int, len(numbers))
	for i, number := range numbers {
		images[i] = image(number)
	}
	return images
}

// shift returns the function that adds a number.
func shift(by int) func(reference int) int {
	return func(reference int) int { return reference + by }
}
