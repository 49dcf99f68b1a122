package path

import (
	"slices"
	"strings"

	"rosetta/api"
	"rosetta/graph"
	"rosetta/keytext"
)

// The kinds of elements.
const (
	oneStep = iota
	anyStep
	manySteps
)

// The texts of elements that are not steps.
const (
	anyText  = "[*]"
	manyText = "[**]"
)

// element is an element of a pattern; its step is used only if it is one.
type element struct {
	kind int
	step api.Step
}

// Pattern matches paths. The zero Pattern has no elements.
type Pattern struct {
	elements []element
}

// Compile returns the pattern with a text.
func Compile(s string) (Pattern, api.Errno) {
	elements, e := read(s, readElement)
	return Pattern{elements}, e
}

// Text returns the text of the pattern.
func (p Pattern) Text() string {
	var text strings.Builder
	for _, e := range p.elements {
		text.WriteString(e.text())
	}
	return text.String()
}

// Matches reports whether the pattern matches a path, which need not be valid.
//
// It keeps the set of all numbers of elements to which the steps so far can belong, so that it takes little time and memory for every path, however long.
func (p Pattern) Matches(l api.Path) bool {
	size := len(p.elements)
	var states [api.MaxParts + 1]bool
	// reach marks a number of elements, and those after it that stand for no steps.
	var reach func(count int)
	reach = func(count int) {
		if states[count] {
			return
		}
		states[count] = true
		if count < size && p.elements[count].kind == manySteps {
			reach(count + 1)
		}
	}
	reach(0)
	for _, step := range l {
		before := states
		states = [api.MaxParts + 1]bool{}
		for i, e := range p.elements {
			switch {
			case !before[i] || !e.accepts(step):
			case e.kind == manySteps:
				reach(i)
			default:
				reach(i + 1)
			}
		}
	}
	return states[size]
}

// Select returns the first paths of the nodes of a graph that the pattern matches, in the order of All.
func (p Pattern) Select(g api.Graph) ([]api.Path, api.Errno) {
	if graph.Check(g) != api.OK {
		return nil, api.ErrForm
	}
	var selected []api.Path
	for path := range visits(keytext.Sorted(g), g.Root) {
		if p.Matches(path) {
			selected = append(selected, slices.Clone(path))
		}
	}
	return selected, api.OK
}

// readElement reads the element with which a text begins.
func readElement(s string) (element, string, bool) {
	if rest, ok := strings.CutPrefix(s, anyText); ok {
		return element{kind: anyStep}, rest, true
	}
	if rest, ok := strings.CutPrefix(s, manyText); ok {
		return element{kind: manySteps}, rest, true
	}
	step, rest, ok := readStep(s)
	return element{oneStep, step}, rest, ok
}

func (e element) text() string {
	switch e.kind {
	case anyStep:
		return anyText
	case manySteps:
		return manyText
	}
	return stepText(e.step)
}

// accepts reports whether a step can belong to the element.
func (e element) accepts(step api.Step) bool {
	return e.kind != oneStep || e.step.Key == step.Key && (step.Key != "" || e.step.Index == step.Index)
}
