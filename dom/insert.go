package dom

import (
	"slices"

	"thicket/api"
	"thicket/arena"
)

// Validate reports whether a node can be inserted into a parent before a child.
func Validate(a *arena.Arena, parent, node, child int) api.Errno {
	_, e := insertion(a, parent, node, child)
	return e
}

// Insert inserts a node into a parent before a child.
func Insert(a *arena.Arena, parent, node, child int) api.Errno {
	m, e := insertion(a, parent, node, child)
	if e != api.OK {
		return e
	}
	m.perform(notItself(a, node, child))
	return api.OK
}

// Append inserts a node into a parent at the end.
func Append(a *arena.Arena, parent, node int) api.Errno {
	return Insert(a, parent, node, 0)
}

// Replace replaces a child of a parent by a node.
func Replace(a *arena.Arena, parent, node, child int) api.Errno {
	m, e := replacement(a, parent, node, child)
	if e != api.OK {
		return e
	}
	before := notItself(a, node, following(a, child))
	a.Cut(child)
	m.perform(before)
	return api.OK
}

// notItself returns the child before which a node that must not be put before
// itself is put instead.
func notItself(a *arena.Arena, node, before int) int {
	if before == node {
		return following(a, node)
	}
	return before
}

// move is a change that makes the nodes of a node children of a parent.
type move struct {
	arena        *arena.Arena
	parent, node item
	child        int  // 0: there is none
	replaces     bool // whether the node takes the place of the child, or precedes it
}

// insertion returns the move of a node before a child, if it is allowed.
func insertion(a *arena.Arena, parent, node, child int) (move, api.Errno) {
	if e := check(a, parent, node); e != api.OK {
		return move{}, e
	}
	if e := checkOptional(a, child); e != api.OK {
		return move{}, e
	}
	m := move{a, look(a, parent), look(a, node), child, false}
	return m, m.refusal()
}

// replacement returns the move of a node to the place of a child, if it is
// allowed.
func replacement(a *arena.Arena, parent, node, child int) (move, api.Errno) {
	if e := check(a, parent, node, child); e != api.OK {
		return move{}, e
	}
	m := move{a, look(a, parent), look(a, node), child, true}
	return m, m.refusal()
}

// perform puts the nodes of the node before a child of the parent.
func (m move) perform(before int) {
	nodes := []int{m.node.handle}
	if m.node.Kind == api.Fragment {
		nodes = m.node.Kids
	}
	for _, h := range nodes {
		adopt(m.arena, h, m.parent.Doc)
		m.arena.Put(m.parent.handle, h, before)
	}
}

// refusal returns the error of the first condition that forbids the move. The
// later ones rely on the earlier ones: the child is one of the parent.
func (m move) refusal() api.Errno {
	intoDocument := m.parent.Kind == api.Document
	conditions := []func() api.Errno{
		func() api.Errno { return errorIf(!canHaveKids(m.parent.Kind), api.ErrHierarchy) },
		func() api.Errno {
			return errorIf(m.arena.Contains(m.node.handle, m.parent.handle), api.ErrHierarchy)
		},
		func() api.Errno {
			return errorIf(m.child != 0 && m.arena.Parent(m.child) != m.parent.handle, api.ErrNotFound)
		},
		func() api.Errno { return errorIf(m.node.Kind == api.Document, api.ErrHierarchy) },
		func() api.Errno { return errorIf(m.node.Kind == api.Text && intoDocument, api.ErrHierarchy) },
		func() api.Errno { return errorIf(m.node.Kind == api.Doctype && !intoDocument, api.ErrHierarchy) },
		func() api.Errno { return errorIf(intoDocument && !m.suitsDocument(), api.ErrHierarchy) },
	}
	for _, condition := range conditions {
		if e := condition(); e != api.OK {
			return e
		}
	}
	return api.OK
}

func errorIf(applies bool, e api.Errno) api.Errno {
	if applies {
		return e
	}
	return api.OK
}

func canHaveKids(k api.Kind) bool {
	return k == api.Document || k == api.Fragment || k == api.Element
}

// suitsDocument reports whether a document that is the parent has room for the
// node: it has at most one element, and before it at most one doctype.
func (m move) suitsDocument() bool {
	before, after := m.neighbours()
	switch m.node.Kind {
	case api.Fragment:
		kids := lookAll(m.arena, m.node.Kids)
		elements := count(kids, api.Element)
		return count(kids, api.Text) == 0 && (elements == 0 || elements == 1 && suitsElement(before, after))
	case api.Element:
		return suitsElement(before, after)
	case api.Doctype:
		return suitsDoctype(before, after)
	}
	return true
}

// neighbours returns the children that will precede the node, and those that
// will follow it. A child that is replaced is neither.
func (m move) neighbours() (before, after []item) {
	kids := lookAll(m.arena, m.parent.Kids)
	if m.child == 0 {
		return kids, nil
	}
	index := slices.Index(m.parent.Kids, m.child)
	before, after = kids[:index], kids[index:]
	if m.replaces {
		after = after[1:]
	}
	return before, after
}

func suitsElement(before, after []item) bool {
	return count(before, api.Element) == 0 && count(after, api.Element) == 0 && count(after, api.Doctype) == 0
}

func suitsDoctype(before, after []item) bool {
	return count(before, api.Doctype) == 0 && count(after, api.Doctype) == 0 && count(before, api.Element) == 0
}

// count returns how many of the nodes are of a kind.
func count(nodes []item, k api.Kind) int {
	n := 0
	for _, node := range nodes {
		if node.Kind == k {
			n++
		}
	}
	return n
}
