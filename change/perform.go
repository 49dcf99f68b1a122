package change

import (
	"slices"

	"rosetta/api"
	"rosetta/graph"
	"rosetta/keytext"
)

// perform returns a valid value after a change, or the error of Check. The result can share memory with the change.
func perform(g api.Graph, c api.Change) (api.Graph, api.Errno) {
	if e := checkForm(c); e != api.OK {
		return api.Graph{}, e
	}
	s, e := locate(g, c)
	if e != api.OK {
		return api.Graph{}, e
	}
	if len(c.Path) == 0 {
		return c.Value, api.OK
	}
	nodes, root, e := s.copyTrail(c)
	if e != api.OK {
		return api.Graph{}, e
	}
	changed := api.Graph{Nodes: keytext.Renumber(nodes, root)}
	if e := graph.Check(changed); e != api.OK {
		return api.Graph{}, e
	}
	return changed, api.OK
}

// checkForm returns OK if a change has a form that is allowed for its Op.
func checkForm(c api.Change) api.Errno {
	switch {
	case operation(c.Op) == nil,
		c.Op != api.Set && len(c.Path) == 0,
		c.Op == api.Remove && (len(c.Value.Nodes) > 0 || c.Value.Root != 0):
		return api.ErrArg
	case c.Op != api.Remove && graph.Check(c.Value) != api.OK:
		return api.ErrForm
	}
	return api.OK
}

// operation returns the function that changes a node at a position, with the key and the value of a change, or nil if there is no such Op.
func operation(op int) func(n *api.Node, at, key, value int) {
	switch op {
	case api.Set:
		return func(n *api.Node, at, _, value int) {
			n.Items[at] = value
		}
	case api.Insert:
		return func(n *api.Node, at, key, value int) {
			n.Items = slices.Insert(n.Items, at, value)
			if n.Kind == api.Map {
				n.Keys = slices.Insert(n.Keys, at, key)
			}
		}
	case api.Remove:
		return func(n *api.Node, at, _, _ int) {
			n.Items = slices.Delete(n.Items, at, at+1)
			if n.Kind == api.Map {
				n.Keys = slices.Delete(n.Keys, at, at+1)
			}
		}
	}
	return nil
}

// copyTrail returns a table that contains the nodes of the changed value, among others, and its root.
func (s *site) copyTrail(c api.Change) ([]api.Node, int, api.Errno) {
	change := operation(c.Op)
	nodes, roots := join(s.nodes, s.key, c.Value)
	var duplicate func(node int) int
	duplicate = func(node int) int {
		n := nodes[node]
		n.Keys, n.Items = mapped(n.Keys, duplicate), mapped(n.Items, duplicate)
		nodes = append(nodes, n)
		return len(nodes) - 1
	}
	items := s.linker()
	size, next := len(nodes), 0
	for i := len(s.trail) - 1; i >= 0; i-- {
		n := nodes[s.trail[i]]
		if i == len(s.trail)-1 {
			n.Keys, n.Items = slices.Clone(n.Keys), slices.Clone(n.Items)
			change(&n, s.turns[i], roots[0], roots[1])
		} else {
			n.Items = items(i, next)
		}
		n.Keys = mapped(n.Keys, duplicate)
		next = len(nodes)
		nodes = append(nodes, n)
		// All copies belong to the result, so a path of any length needs no more of them.
		if len(nodes)-size > api.MaxNodes {
			return nil, 0, api.ErrMany
		}
	}
	return nodes, next, api.OK
}

// linker returns the function that returns the items of the copy of node i of the trail, among which is the next copy. It is called for the last copy first.
//
// A path can lead through the same list often, and a list can have many items. If the path is so long that the result is too deep, all that matters is how many nodes the result has. Then the items of the last copy of a list suffice: the path leads from the earlier ones to the list again, so if their items are others, the last copy reaches the list, with all its items.
func (s *site) linker() func(i, next int) []int {
	copied := map[int]bool{}
	return func(i, next int) []int {
		node := s.trail[i]
		if len(s.trail) > api.MaxDepth+1 && s.nodes[node].Kind == api.List && copied[node] {
			return []int{next}
		}
		copied[node] = true
		items := slices.Clone(s.nodes[node].Items)
		items[s.turns[i]] = next
		return items
	}
}

// join returns a table with the nodes of values behind those of a table, and the roots of these values in it.
func join(nodes []api.Node, values ...api.Graph) ([]api.Node, []int) {
	size := len(nodes)
	for _, v := range values {
		size += len(v.Nodes)
	}
	joined := make([]api.Node, size)
	end := copy(joined, nodes)
	var roots []int
	for _, v := range values {
		roots = append(roots, end+v.Root)
		first := end
		shift := func(node int) int { return first + node }
		end += copy(joined[end:], v.Nodes)
		for i := first; i < end; i++ {
			joined[i].Keys, joined[i].Items = mapped(joined[i].Keys, shift), mapped(joined[i].Items, shift)
		}
	}
	return joined, roots
}

// mapped returns the images of references.
func mapped(references []int, image func(node int) int) []int {
	images := make([]int, len(references))
	for i, node := range references {
		images[i] = image(node)
	}
	return images
}
