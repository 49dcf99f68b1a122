package diff

import (
	"slices"

	"rosetta/api"
	"rosetta/keytext"
)

// index holds the key texts of a map, in the order of its entries, and their positions.
type index struct {
	texts     []string
	positions map[string]int
}

// index returns the index of a map.
func (d *differ) index(n api.Node) index {
	x := index{positions: map[string]int{}}
	for i, key := range n.Keys {
		text := keytext.Of(d.nodes, key)
		x.texts = append(x.texts, text)
		x.positions[text] = i
	}
	return x
}

// split returns the key texts that another index has too, and those that it does not have, in order.
func (x index) split(other index) (common, own []string) {
	for _, text := range x.texts {
		if _, ok := other.positions[text]; ok {
			common = append(common, text)
		} else {
			own = append(own, text)
		}
	}
	return common, own
}

// maps adds the difference between two maps that are both ordered or both unordered, and reports whether it has: it has not if the keys that both have are in different orders.
func (d *differ) maps(x, y api.Node) bool {
	first, second := d.index(x), d.index(y)
	common, removed := first.split(second)
	same, inserted := second.split(first)
	// The entries of unordered maps are sorted, so the keys that both have are in the same order.
	if !slices.Equal(common, same) {
		return false
	}
	for _, key := range removed {
		d.remove(api.Step{Key: key})
	}
	for _, key := range common {
		d.within(api.Step{Key: key}, x.Items[first.positions[key]], y.Items[second.positions[key]])
	}
	for _, key := range inserted {
		at := second.positions[key]
		step := api.Step{Key: key}
		if y.Ordered {
			step.Index = at
		}
		d.insert(step, y.Items[at])
	}
	return true
}
