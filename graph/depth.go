package graph

import "rosetta/api"

// measure returns the depth of a graph, and whether it has no cycles. All references must be indices, and the root reach all nodes.
//
// It visits the nodes depth first and finds their components with Tarjan's algorithm.
func measure(g api.Graph) (int, bool) {
	w := walk{
		nodes:  g.Nodes,
		order:  make([]int, len(g.Nodes)),
		weight: make([]int, len(g.Nodes)),
	}
	w.visit(g.Root)
	return w.weight[g.Root] - 1, !w.cyclic
}

// walk is the state of a visit of all nodes.
type walk struct {
	nodes []api.Node
	// order numbers the visited nodes from 1; it is 0 for the others.
	order []int
	count int
	// open holds the visited nodes whose components are not complete.
	open []int
	// weight is, for the nodes of complete components, the greatest total number of nodes on a path of components that begins there; it is 0 for the others.
	weight []int
	cyclic bool
}

// visit visits a node and all nodes that it reaches, and returns the least order of the open nodes found.
func (w *walk) visit(node int) int {
	w.count++
	w.order[node] = w.count
	w.open = append(w.open, node)
	least := w.order[node]
	for reference := range references(w.nodes[node]) {
		switch {
		case w.order[reference] == 0:
			least = min(least, w.visit(reference))
		case w.weight[reference] == 0:
			// An open node reaches this one.
			w.cyclic = true
			least = min(least, w.order[reference])
		}
	}
	if least == w.order[node] {
		w.complete(node)
	}
	return least
}

// complete takes the nodes of a component, of which the given one has been visited first, from the open nodes.
func (w *walk) complete(first int) {
	start := len(w.open) - 1
	for w.open[start] != first {
		start--
	}
	component := w.open[start:]
	w.open = w.open[:start]
	below := 0
	for _, node := range component {
		for reference := range references(w.nodes[node]) {
			below = max(below, w.weight[reference])
		}
	}
	for _, node := range component {
		w.weight[node] = len(component) + below
	}
}
