package stack

import "thicket/api"

// Scope is a kind of scope.
type Scope int

// The scopes.
const (
	DefaultScope Scope = 1 + iota
	ListScope
	ButtonScope
	TableScope
	SelectScope
)

// InScope reports whether an element with one of the names is in a scope.
func (s *Stack) InScope(scope Scope, names ...string) bool {
	return s.hasInScope(scope, named(names...))
}

// NodeInScope reports whether the topmost item with a node is in a scope.
func (s *Stack) NodeInScope(scope Scope, node int) bool {
	return s.hasInScope(scope, hasNode(node))
}

// hasInScope reports whether the topmost item that is wanted is in a scope. It
// may be a boundary itself.
func (s *Stack) hasInScope(scope Scope, isWanted condition) bool {
	index := lastIndex(s.items(), either(isWanted, boundary(scope)))
	return index >= 0 && isWanted(s.Items[index])
}

// boundary returns the condition that an item is a boundary of a scope.
func boundary(scope Scope) condition {
	switch scope {
	case ListScope:
		return either(isDefaultBoundary, named("ol", "ul"))
	case ButtonScope:
		return either(isDefaultBoundary, named("button"))
	case TableScope:
		return named("html", "table", "template")
	case SelectScope:
		isOption := named("optgroup", "option")
		return func(i Item) bool { return !isOption(i) }
	}
	return isDefaultBoundary
}

func isDefaultBoundary(i Item) bool {
	if i.Space != api.HTML {
		return Special(i.Space, i.Name)
	}
	switch i.Name {
	case "applet", "caption", "html", "marquee", "object", "table", "td", "template", "th":
		return true
	}
	return false
}
