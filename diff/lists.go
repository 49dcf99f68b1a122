package diff

import "rosetta/api"

// lists adds the difference between two lists of items.
func (d *differ) lists(a, b []int) {
	i, j := 0, 0
	for _, pair := range align(a, b) {
		d.gap(a[i:pair[0]], b[j:pair[1]], j)
		i, j = pair[0]+1, pair[1]+1
	}
	d.gap(a[i:], b[j:], j)
}

// gap adds the difference between the items of a gap. As the earlier changes leave the list, these items begin at the index at which they begin in the second list.
func (d *differ) gap(a, b []int, from int) {
	paired := min(len(a), len(b))
	for i := range paired {
		d.within(api.Step{Index: from + i}, a[i], b[i])
	}
	for range a[paired:] {
		d.remove(api.Step{Index: from + paired})
	}
	for i := paired; i < len(b); i++ {
		d.insert(api.Step{Index: from + i}, b[i])
	}
}

// align returns the positions of the items of two lists that are matched, in order.
func align(a, b []int) [][2]int {
	longest := subsequences(a, b)
	var pairs [][2]int
	i, j := 0, 0
	for i < len(a) && j < len(b) {
		switch {
		case a[i] == b[j]:
			pairs = append(pairs, [2]int{i, j})
			i++
			j++
		case longest(i+1, j) >= longest(i, j+1):
			i++
		default:
			j++
		}
	}
	return pairs
}

// subsequences returns the function that returns the length of the longest common subsequence of the items from the position i on in one list and from j on in the other one.
func subsequences(a, b []int) func(i, j int) int {
	width := len(b) + 1
	// A tree has at most MaxNodes items, so 16 bits suffice for a length.
	table := make([]uint16, (len(a)+1)*width)
	longest := func(i, j int) int { return int(table[i*width+j]) }
	for i := len(a) - 1; i >= 0; i-- {
		for j := len(b) - 1; j >= 0; j-- {
			length := max(longest(i+1, j), longest(i, j+1))
			if a[i] == b[j] {
				length = longest(i+1, j+1) + 1
			}
			table[i*width+j] = uint16(length)
		}
	}
	return longest
}
