package change

import (
	"rosetta/api"
	"rosetta/keytext"
)

// site is the place of a change in a value.
type site struct {
	// nodes are those of the value; the entries of unordered maps are sorted.
	nodes []api.Node
	// trail holds the nodes to which the beginnings of the path lead, without the whole path.
	trail []int
	// turns holds, for each node of the trail, the position of the item that the next step selects; at the last node, it is the position at which an Insert adds an item.
	turns []int
	// key is the key that an Insert adds.
	key api.Graph
}

// locate returns the place of a change in a valid value, or why the path of the change does not lead to one.
func locate(g api.Graph, c api.Change) (site, api.Errno) {
	s := site{nodes: keytext.Sorted(g)}
	find := finder(s.nodes)
	way := c.Path
	if c.Op != api.Set {
		way = c.Path[:len(c.Path)-1]
	}
	node := g.Root
	for _, step := range way {
		at := find(node, step)
		if at < 0 {
			return site{}, api.ErrNone
		}
		s.add(node, at)
		node = s.nodes[node].Items[at]
	}
	if c.Op == api.Set {
		return s, api.OK
	}
	last := c.Path[len(c.Path)-1]
	at, e := position(s.nodes[node], c.Op, last, find(node, last))
	if e != api.OK {
		return site{}, e
	}
	s.add(node, at)
	if c.Op == api.Insert && last.Key != "" {
		s.key, _ = keytext.Parse(last.Key)
	}
	return s, api.OK
}

// finder returns the function that finds the position of the item that a step selects at a node, or -1. It remembers the keys of the maps, since a path can lead through the same map often.
func finder(nodes []api.Node) func(node int, step api.Step) int {
	known := map[int]map[string]int{}
	return func(node int, step api.Step) int {
		n := nodes[node]
		if n.Kind != api.Map {
			if step.Key != "" || step.Index < 0 || step.Index >= len(n.Items) {
				return -1
			}
			return step.Index
		}
		if known[node] == nil {
			known[node] = positions(nodes, n.Keys)
		}
		// No key text is empty, so a step without a Key selects nothing here.
		if at, ok := known[node][step.Key]; ok {
			return at
		}
		return -1
	}
}

// positions returns the positions of keys by their key texts.
func positions(nodes []api.Node, keys []int) map[string]int {
	all := map[string]int{}
	for i, key := range keys {
		all[keytext.Of(nodes, key)] = i
	}
	return all
}

// position returns the position at which an Insert or a Remove changes a container. The last step of the path selects the item at found, or nothing if this is negative.
func position(container api.Node, op int, last api.Step, found int) (int, api.Errno) {
	switch {
	case last.Key != "" && container.Kind != api.Map, last.Key == "" && container.Kind != api.List:
		return 0, api.ErrKind
	case op == api.Remove && found < 0:
		return 0, api.ErrNone
	case op == api.Remove:
		return found, api.OK
	}
	if last.Key != "" {
		if e := checkEntry(container, last, found); e != api.OK {
			return 0, e
		}
	}
	if last.Index < 0 || last.Index > len(container.Items) {
		return 0, api.ErrRange
	}
	return last.Index, api.OK
}

// checkEntry returns OK if an entry with the key of a step can be inserted into a map, perhaps at another position.
func checkEntry(container api.Node, last api.Step, found int) api.Errno {
	_, ok := keytext.Parse(last.Key)
	switch {
	case !ok:
		return api.ErrKey
	case found >= 0:
		return api.ErrTwice
	case !container.Ordered && last.Index != 0:
		return api.ErrArg
	}
	return api.OK
}

// add adds a node to the trail.
func (s *site) add(node, at int) {
	s.trail = append(s.trail, node)
	s.turns = append(s.turns, at)
}

// previous returns the node that a Set replaces or a Remove removes.
func (s *site) previous(root int) int {
	if len(s.trail) == 0 {
		return root
	}
	last := len(s.trail) - 1
	return s.nodes[s.trail[last]].Items[s.turns[last]]
}

// rank returns the position of the changed entry if the order of the entries matters, and otherwise 0.
func (s *site) rank() int {
	last := len(s.trail) - 1
	if !s.nodes[s.trail[last]].Ordered {
		return 0
	}
	return s.turns[last]
}
