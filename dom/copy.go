package dom

import (
	"slices"

	"thicket/api"
	"thicket/arena"
)

// Clone creates a copy of a node.
func Clone(a *arena.Arena, h int, deep bool) (int, api.Errno) {
	if e := check(a, h); e != api.OK {
		return 0, e
	}
	c := copier{to: a, from: a, deep: deep}
	return c.copy(h, look(a, h).Doc), api.OK
}

// Import creates a deep copy of a node of another arena.
func Import(to *arena.Arena, doc int, from *arena.Arena, h int) (int, api.Errno) {
	if to == nil || from == nil {
		return 0, api.ErrNil
	}
	if e := check(to, doc); e != api.OK {
		return 0, e
	}
	if e := check(from, h); e != api.OK {
		return 0, e
	}
	if look(to, doc).Kind != api.Document || look(from, h).Kind == api.Document {
		return 0, api.ErrKind
	}
	c := copier{to: to, from: from, deep: true}
	return c.copy(h, doc), api.OK
}

// copier creates copies in one arena of the nodes of another one, which may be
// the same.
type copier struct {
	to, from *arena.Arena
	deep     bool
	todo     []copying // the last one comes first
}

// copying is a copy that is still to be created.
type copying struct {
	node   int // the original
	doc    int // the document that the copy is for
	parent int // of the copy; 0: none
}

// copy copies a node for a document, and returns the handle of its copy. It
// does not call itself, so that the depth of a tree has no limit.
func (c *copier) copy(h, doc int) int {
	root := c.create(copying{node: h, doc: doc})
	for len(c.todo) > 0 {
		last := len(c.todo) - 1
		next := c.todo[last]
		c.todo = c.todo[:last]
		c.to.Put(next.parent, c.create(next), 0)
	}
	return root
}

// create creates a copy without a parent, and plans what comes into it. It
// plans the contents last, since they come first.
func (c *copier) create(next copying) int {
	original := look(c.from, next.node)
	h := createLike(c.to, original, next.doc)
	if c.deep {
		created := look(c.to, h)
		c.plan(original.Kids, created)
		c.plan(c.from.Kids(original.Contents), look(c.to, created.Contents))
	}
	return h
}

// plan plans copies of nodes as children of a parent, for its document.
func (c *copier) plan(originals []int, parent item) {
	for _, h := range slices.Backward(originals) {
		c.todo = append(c.todo, copying{h, parent.Doc, parent.handle})
	}
}

// createLike creates a node that is like another one, but has no children.
func createLike(a *arena.Arena, n item, doc int) int {
	var h int
	switch n.Kind {
	case api.Document:
		h = a.Document(n.Quirks)
	case api.Fragment:
		h, _ = a.Fragment(doc)
	case api.Doctype:
		h, _ = a.Doctype(doc, n.Name, n.Public, n.System)
	case api.Element:
		h, _ = a.Element(doc, n.Space, n.Name, n.Attrs)
	case api.Text:
		h, _ = a.Text(doc, n.Data)
	case api.Comment:
		h, _ = a.Comment(doc, n.Data)
	}
	return h
}
