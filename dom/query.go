package dom

import (
	"slices"

	"thicket/api"
	"thicket/arena"
	"thicket/text"
)

// ByName returns the elements below a node that have a name.
func ByName(a *arena.Arena, h int, name string) []int {
	lower := text.Lower(name)
	var named []int
	for k := range below(a, h) {
		n := look(a, k)
		wanted := name
		if n.Space == api.HTML {
			wanted = lower
		}
		if n.Kind == api.Element && (name == "*" || n.Name == wanted) {
			named = append(named, k)
		}
	}
	return named
}

// ByID returns the first element below a node that has an id.
func ByID(a *arena.Arena, h int, id string) int {
	if id == "" {
		return 0
	}
	first := 0
search:
	for k := range below(a, h) {
		for _, attr := range look(a, k).Attrs {
			if attr.Space == api.NoSpace && attr.Name == "id" && attr.Value == id {
				first = k
				break search
			}
		}
	}
	return first
}

// Before reports whether a node comes before another one of the same tree.
func Before(a *arena.Arena, h, k int) bool {
	one, other := path(a, h), path(a, k)
	shared := 0
	for shared < min(len(one), len(other)) && one[shared] == other[shared] {
		shared++
	}
	switch shared {
	case 0: // they have different roots, or do not exist
		return false
	case len(other): // k is h, or stands above it
		return false
	case len(one):
		return true
	}
	return a.Index(one[shared]) < a.Index(other[shared])
}

// path returns a node and all above it, from the root down.
func path(a *arena.Arena, h int) []int {
	var all []int
	for up := h; up != 0; up = a.Parent(up) {
		all = append(all, up)
	}
	slices.Reverse(all)
	return all
}
