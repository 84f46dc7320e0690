package stack

import (
	"slices"

	"thicket/api"
)

// condition holds for some items.
type condition func(Item) bool

// hasNode returns the condition that an item has a node.
func hasNode(node int) condition {
	return func(i Item) bool { return i.Node == node }
}

// named returns the condition that an item is an element with one of the names.
func named(names ...string) condition {
	return func(i Item) bool { return i.Space == api.HTML && slices.Contains(names, i.Name) }
}

// either returns the condition that one of two conditions holds.
func either(one, other condition) condition {
	return func(i Item) bool { return one(i) || other(i) }
}

// upTo returns the condition that holds for one item after the other, up to and
// including the first one that is the last.
func upTo(isLast condition) condition {
	ended := false
	return func(i Item) bool {
		if ended {
			return false
		}
		ended = isLast(i)
		return true
	}
}
