package dom

import (
	"thicket/api"
	"thicket/arena"
)

// Remove removes a child from its parent.
func Remove(a *arena.Arena, parent, child int) api.Errno {
	if e := check(a, parent, child); e != api.OK {
		return e
	}
	if a.Parent(child) != parent {
		return api.ErrNotFound
	}
	return a.Cut(child)
}

// Detach removes a node from its parent, if it has one.
func Detach(a *arena.Arena, node int) api.Errno {
	return a.Cut(node)
}

// ReplaceAll replaces all children of a parent by a fragment.
func ReplaceAll(a *arena.Arena, parent, node int) api.Errno {
	if e := check(a, parent); e != api.OK {
		return e
	}
	if e := checkOptional(a, node); e != api.OK {
		return e
	}
	up, fragment := look(a, parent), look(a, node)
	if up.Kind != api.Element && up.Kind != api.Fragment {
		return api.ErrKind
	}
	if node != 0 && (fragment.Kind != api.Fragment || a.Contains(node, parent)) {
		return api.ErrHierarchy
	}
	removeKids(a, up)
	if node != 0 {
		move{arena: a, parent: up, node: fragment}.perform(0)
	}
	return api.OK
}

func removeKids(a *arena.Arena, parent item) {
	for _, kid := range parent.Kids {
		a.Cut(kid)
	}
}

// Adopt adopts a node into a document.
func Adopt(a *arena.Arena, node, doc int) api.Errno {
	if e := check(a, node, doc); e != api.OK {
		return e
	}
	n := look(a, node)
	if n.Kind == api.Document || n.Host != 0 || look(a, doc).Kind != api.Document {
		return api.ErrKind
	}
	adopt(a, node, doc)
	return api.OK
}

// adoption is a node that is to be adopted into a document.
type adoption struct {
	node, doc int
}

// adopt adopts a node into a document, and the contents of templates into its
// inert document.
func adopt(a *arena.Arena, node, doc int) {
	a.Cut(node)
	todo := []adoption{{node, doc}}
	for len(todo) > 0 {
		next := todo[0]
		todo = todo[1:]
		if look(a, next.node).Doc == next.doc {
			continue
		}
		for h := range tree(a, next.node) {
			a.SetDoc(h, next.doc)
			if contents := look(a, h).Contents; contents != 0 {
				inert, _ := a.Inert(next.doc)
				todo = append(todo, adoption{contents, inert})
			}
		}
	}
}
