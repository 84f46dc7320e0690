package builder

import (
	"slices"

	"thicket/api"
)

// place is where a node is to be put. It holds what is known of the parent, since
// layer 4 describes a node only together with a copy of its children, which may
// be many.
type place struct {
	parent int
	up     api.Node // the description of the parent; its kind is 0 if there is no such node
	before int      // the child that the node comes before; 0: it comes at the end
}

// Place returns the place for a target.
func (b *Builder) Place(target int) (parent, before int) {
	if b.isNone() {
		return 0, 0
	}
	p := b.placeFor(target)
	return p.parent, p.before
}

// placeFor returns the place for a target, which is 0 for the current node.
func (b *Builder) placeFor(target int) place {
	p := b.outerPlace(target)
	if p.up.Contents != 0 {
		return b.endOf(p.up.Contents)
	}
	return p
}

// outerPlace returns the place for a target, where a template still stands for
// its contents.
func (b *Builder) outerPlace(target int) place {
	if target == 0 && b.Open.Len() == 0 {
		return b.endOf(b.Doc)
	}
	if target == 0 {
		target = b.Current().Node
	}
	p := b.endOf(target)
	if b.Foster && isTablePart(p.up) {
		return b.fosterPlace()
	}
	return p
}

// fosterPlace returns the place for what a table must not contain.
func (b *Builder) fosterPlace() place {
	table, template := b.Open.Last("table"), b.Open.Last("template")
	if template > table {
		return b.endOf(b.Open.At(template).Node)
	}
	if table < 0 {
		return b.endOf(b.Open.At(0).Node)
	}
	node := b.Open.At(table).Node
	if parent := b.Tree.Parent(node); parent != 0 {
		return place{parent, b.node(parent), node}
	}
	return b.endOf(b.Open.At(max(table-1, 0)).Node)
}

// endOf returns the place at the end of a parent.
func (b *Builder) endOf(parent int) place {
	return place{parent: parent, up: b.node(parent)}
}

// put puts a node at a place, if it may stand there: a document has one element
// at the most, and layer 4 has its own rules.
func (b *Builder) put(node int, p place) {
	if p.up.Kind == api.Document && b.isElement(node) && slices.ContainsFunc(p.up.Kids, b.isElement) {
		return
	}
	b.Tree.Put(p.parent, node, p.before)
}

func (b *Builder) isElement(h int) bool {
	return b.node(h).Kind == api.Element
}

// kidBefore returns the child directly before a place, or 0.
func (b *Builder) kidBefore(p place) int {
	index := len(p.up.Kids)
	if p.before != 0 {
		index = b.Tree.Index(p.before)
	}
	if index < 1 {
		return 0
	}
	return p.up.Kids[index-1]
}

// isTablePart reports whether a node is an element that needs foster parents for
// most of what is put into it.
func isTablePart(n api.Node) bool {
	if n.Kind != api.Element || n.Space != api.HTML {
		return false
	}
	switch n.Name {
	case "table", "tbody", "tfoot", "thead", "tr":
		return true
	}
	return false
}
