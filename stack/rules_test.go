package stack_test

import (
	"slices"

	"thicket/api"
	"thicket/stack"
)

// The functions of this file follow the chapter's sentences one by one. They
// get a list that they may change, and return what becomes of it.

// isOneOf reports whether an item is an element with one of the names.
func isOneOf(item stack.Item, names ...string) bool {
	return item.Space == api.HTML && slices.Contains(names, item.Name)
}

// highest is the greatest index that is suitable, or -1.
func highest(items []stack.Item, suits func(stack.Item) bool) int {
	found := -1
	for i, item := range items {
		if suits(item) {
			found = i
		}
	}
	return found
}

func highestNode(items []stack.Item, node int) int {
	return highest(items, func(item stack.Item) bool { return item.Node == node })
}

func popByRules(items []stack.Item) ([]stack.Item, stack.Item) {
	if len(items) < 2 {
		return items, stack.Item{}
	}
	return items[:len(items)-1], items[len(items)-1]
}

func atByRules(items []stack.Item, i int) stack.Item {
	for k, item := range items {
		if k == i {
			return item
		}
	}
	return stack.Item{}
}

func isBoundary(scope stack.Scope, item stack.Item) bool {
	isDefault := isOneOf(item, "applet", "caption", "html", "marquee", "object", "table", "td", "template", "th") ||
		item.Space == api.MathML && inList(mathTextNames+" annotation-xml", item.Name) || item.Space == api.SVG && inList(svgHTMLNames, item.Name)
	switch scope {
	case stack.ListScope:
		return isDefault || isOneOf(item, "ol", "ul")
	case stack.ButtonScope:
		return isDefault || isOneOf(item, "button")
	case stack.TableScope:
		return isOneOf(item, "html", "table", "template")
	case stack.SelectScope:
		return item.Space != api.HTML || item.Name != "optgroup" && item.Name != "option"
	}
	return isDefault
}

// isInScope reports whether the item with an index is in a scope.
func isInScope(items []stack.Item, scope stack.Scope, index int) bool {
	for _, above := range items[index+1:] {
		if isBoundary(scope, above) {
			return false
		}
	}
	return true
}

func inScopeByRules(items []stack.Item, scope stack.Scope, names ...string) bool {
	for i, item := range items {
		if isOneOf(item, names...) && isInScope(items, scope, i) {
			return true
		}
	}
	return false
}

func nodeInScopeByRules(items []stack.Item, scope stack.Scope, node int) bool {
	index := highestNode(items, node)
	return index != -1 && isInScope(items, scope, index)
}

func furthestByRules(items []stack.Item, node int) int {
	index := highestNode(items, node)
	if index == -1 {
		return -1
	}
	for i, item := range items {
		isSpecial := item.Space == api.HTML && inList(specialNames, item.Name) || item.Space == api.MathML && inList(mathTextNames+" annotation-xml", item.Name) || item.Space == api.SVG && inList(svgHTMLNames, item.Name)
		if i > index && isSpecial {
			return i
		}
	}
	return -1
}

func popUntilByRules(items []stack.Item, names ...string) ([]stack.Item, int) {
	index := highest(items, func(item stack.Item) bool { return isOneOf(item, names...) })
	return cutTo(items, max(index, 0))
}

func popNodeByRules(items []stack.Item, node int) ([]stack.Item, int) {
	index := highestNode(items, node)
	if index == -1 {
		return items, 0
	}
	return cutTo(items, index)
}

// cutTo leaves some items, at least one if there is one.
func cutTo(items []stack.Item, left int) ([]stack.Item, int) {
	left = max(left, min(len(items), 1))
	return items[:left], len(items) - left
}

func impliedByRules(items []stack.Item, except string) ([]stack.Item, int) {
	stays := func(item stack.Item) bool {
		return item.Space != api.HTML || !inList(impliedNames, item.Name) || item.Name == except
	}
	return cutTo(items, highest(items, stays)+1)
}

func thoroughByRules(items []stack.Item) ([]stack.Item, int) {
	stays := func(item stack.Item) bool { return item.Space != api.HTML || !inList(thoroughNames, item.Name) }
	return cutTo(items, highest(items, stays)+1)
}

func clearToByRules(items []stack.Item, names ...string) ([]stack.Item, int) {
	return cutTo(items, highest(items, func(item stack.Item) bool { return isOneOf(item, names...) })+1)
}

func removeByRules(items []stack.Item, node int) ([]stack.Item, bool) {
	index := highestNode(items, node)
	if index == -1 || index == 0 {
		return items, false
	}
	return slices.Concat(items[:index], items[index+1:]), true
}

func replaceByRules(items []stack.Item, node int, item stack.Item) ([]stack.Item, bool) {
	index := highestNode(items, node)
	if index == -1 || index == 0 {
		return items, false
	}
	return slices.Concat(items[:index], []stack.Item{item}, items[index+1:]), true
}

func insertByRules(items []stack.Item, item stack.Item, at int) []stack.Item {
	if at < 1 {
		at = 1
	}
	if at > len(items) {
		at = len(items)
	}
	return slices.Concat(items[:at], []stack.Item{item}, items[at:])
}

// behindMarker is the index of the first entry behind the last marker.
func behindMarker(entries []api.Entry) int {
	start := 0
	for i, e := range entries {
		if e.Node == 0 {
			start = i + 1
		}
	}
	return start
}

func areAlike(e, f api.Entry) bool {
	if e.Name != f.Name || len(e.Attrs) != len(f.Attrs) {
		return false
	}
	for _, a := range e.Attrs {
		if !slices.Contains(f.Attrs, a) {
			return false
		}
	}
	for _, a := range f.Attrs {
		if !slices.Contains(e.Attrs, a) {
			return false
		}
	}
	return true
}

func pushEntryByRules(entries []api.Entry, e api.Entry) []api.Entry {
	var same []int
	for i := behindMarker(entries); i < len(entries); i++ {
		if areAlike(entries[i], e) {
			same = append(same, i)
		}
	}
	if e.Node != 0 && len(same) >= 3 {
		entries = slices.Concat(entries[:same[0]], entries[same[0]+1:])
	}
	return append(entries, e)
}

func clearByRules(entries []api.Entry) ([]api.Entry, int) {
	n := 0
	for len(entries) > 0 {
		last := entries[len(entries)-1]
		entries = entries[:len(entries)-1]
		n++
		if last.Node == 0 {
			break
		}
	}
	return entries, n
}

func findByRules(entries []api.Entry, name string) int {
	found := -1
	for i := behindMarker(entries); i < len(entries); i++ {
		if entries[i].Name == name {
			found = i
		}
	}
	return found
}

func entryIndexByRules(entries []api.Entry, node int) int {
	found := -1
	for i, e := range entries {
		if node != 0 && e.Node == node {
			found = i
		}
	}
	return found
}

func removeEntryByRules(entries []api.Entry, node int) ([]api.Entry, bool) {
	index := entryIndexByRules(entries, node)
	if index == -1 {
		return entries, false
	}
	return slices.Concat(entries[:index], entries[index+1:]), true
}

func replaceEntryByRules(entries []api.Entry, node int, e api.Entry) ([]api.Entry, bool) {
	index := entryIndexByRules(entries, node)
	if index == -1 {
		return entries, false
	}
	return slices.Concat(entries[:index], []api.Entry{e}, entries[index+1:]), true
}

func insertEntryByRules(entries []api.Entry, e api.Entry, at int) []api.Entry {
	if at < 0 {
		at = 0
	}
	if at > len(entries) {
		at = len(entries)
	}
	return slices.Concat(entries[:at], []api.Entry{e}, entries[at:])
}
