package diff

import (
	"slices"

	"rosetta/api"
)

// differ collects the changes between two trees.
type differ struct {
	// nodes are those of both trees. Values that are the same are one node, and the entries of unordered maps are sorted.
	nodes []api.Node
	// path leads to the place at which the values stand.
	path    api.Path
	changes []api.Change
}

// values adds the difference between two values.
func (d *differ) values(a, b int) {
	if a != b && !d.parts(d.nodes[a], d.nodes[b]) {
		d.changes = append(d.changes, api.Change{Op: api.Set, Path: slices.Clone(d.path), Value: d.value(b)})
	}
}

// parts adds the differences between the parts of two different values, and reports whether it has: there are none if one value has to replace the other one.
func (d *differ) parts(x, y api.Node) bool {
	switch {
	case x.Kind != y.Kind || x.Ordered != y.Ordered || x.Text != y.Text:
		return false
	case x.Kind == api.Map:
		return d.maps(x, y)
	case x.Kind == api.List:
		d.lists(x.Items, y.Items)
	case x.Kind == api.Tag:
		d.within(api.Step{}, x.Items[0], y.Items[0])
	}
	return true
}

// within adds the difference between two values to which a further step leads.
func (d *differ) within(step api.Step, a, b int) {
	d.path = append(d.path, step)
	d.values(a, b)
	d.path = d.path[:len(d.path)-1]
}

// remove adds the Remove of what a further step names.
func (d *differ) remove(step api.Step) {
	d.changes = append(d.changes, api.Change{Op: api.Remove, Path: slices.Concat(d.path, api.Path{step})})
}

// insert adds the Insert of what a further step names.
func (d *differ) insert(step api.Step, node int) {
	d.changes = append(d.changes, api.Change{Op: api.Insert, Path: slices.Concat(d.path, api.Path{step}), Value: d.value(node)})
}

// value returns the value of a node, in normal form.
func (d *differ) value(node int) api.Graph {
	var tree []api.Node
	var add func(node int) int
	add = func(node int) int {
		number := len(tree)
		n := d.nodes[node]
		n.Keys, n.Items = slices.Clone(n.Keys), slices.Clone(n.Items)
		tree = append(tree, n)
		for i := range n.Items {
			if n.Kind == api.Map {
				n.Keys[i] = add(n.Keys[i])
			}
			n.Items[i] = add(n.Items[i])
		}
		return number
	}
	add(node)
	return api.Graph{Nodes: tree}
}
