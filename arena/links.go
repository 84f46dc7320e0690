package arena

import (
	"iter"
	"slices"

	"thicket/api"
)

// Kids returns the children of a node.
func (a *Arena) Kids(h int) []int {
	if a.check(h) != api.OK {
		return nil
	}
	return fresh(a.at(h).Kids)
}

// Parent returns the parent of a node.
func (a *Arena) Parent(h int) int {
	if a.check(h) != api.OK {
		return 0
	}
	return a.at(h).Parent
}

// Index returns the index of a node among the children of its parent.
func (a *Arena) Index(h int) int {
	parent := a.Parent(h)
	if parent == 0 {
		return -1
	}
	return slices.Index(a.at(parent).Kids, h)
}

// Root returns the root above a node.
func (a *Arena) Root(h int) int {
	if a.check(h) != api.OK {
		return 0
	}
	root := h
	for up := range upward(h, a.Parent) {
		root = up
	}
	return root
}

// Contains reports whether a node contains another one.
func (a *Arena) Contains(up, h int) bool {
	if a.check(up, h) != api.OK {
		return false
	}
	if a.isEmpty(up) {
		return h == up || h == a.at(up).Contents
	}
	for holder := range upward(h, a.holder) {
		if holder == up {
			return true
		}
	}
	return false
}

// isEmpty reports whether a node contains nothing but itself and its contents.
// Nodes are mostly put into the tree while they are empty: then nobody needs to
// look at all the nodes above, which may be many.
func (a *Arena) isEmpty(h int) bool {
	n := a.at(h)
	return len(n.Kids) == 0 && (n.Contents == 0 || len(a.at(n.Contents).Kids) == 0)
}

func (a *Arena) holder(h int) int {
	return holder(a.at(h).Node)
}

// holder returns what contains a node directly: its parent, or its host.
func holder(n api.Node) int {
	if n.Parent != 0 {
		return n.Parent
	}
	return n.Host
}

// upward returns a sequence over a node and all those that step leads to, until
// it leads to none.
func upward(h int, step func(int) int) iter.Seq[int] {
	return func(yield func(int) bool) {
		for up := h; up != 0 && yield(up); up = step(up) {
		}
	}
}

// Put makes a node a child of another one.
func (a *Arena) Put(parent, node, before int) api.Errno {
	if e := a.checkPut(parent, node, before); e != api.OK {
		return e
	}
	a.unlink(node)
	up := a.at(parent)
	index := len(up.Kids)
	if before != 0 {
		index = a.Index(before)
	}
	up.Kids = slices.Insert(up.Kids, index, node)
	a.at(node).Parent = parent
	return api.OK
}

func (a *Arena) checkPut(parent, node, before int) api.Errno {
	if e := a.check(parent, node); e != api.OK {
		return e
	}
	if before != 0 && a.check(before) != api.OK {
		return api.ErrHandle
	}
	if !canHaveKids(a.at(parent).Kind) || !canHaveParent(a.at(node).Kind) || a.Contains(node, parent) {
		return api.ErrHierarchy
	}
	if before != 0 && (before == node || a.at(before).Parent != parent) {
		return api.ErrNotFound
	}
	return api.OK
}

func canHaveKids(k api.Kind) bool {
	return k == api.Document || k == api.Fragment || k == api.Element
}

func canHaveParent(k api.Kind) bool {
	return k != api.Document && k != api.Fragment
}

// Cut removes a node from its parent.
func (a *Arena) Cut(node int) api.Errno {
	if e := a.check(node); e != api.OK {
		return e
	}
	a.unlink(node)
	return api.OK
}

func (a *Arena) unlink(h int) {
	n := a.at(h)
	if n.Parent == 0 {
		return
	}
	up, index := a.at(n.Parent), a.Index(h)
	up.Kids = slices.Delete(up.Kids, index, index+1)
	n.Parent = 0
}
