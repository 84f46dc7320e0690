package arena

import (
	"slices"

	"thicket/api"
)

// Copy returns an independent copy.
func (a *Arena) Copy() *Arena {
	if a == nil {
		return nil
	}
	b := New()
	for _, n := range a.nodes {
		b.nodes = append(b.nodes, node{n.description(), n.inert})
	}
	return b
}

// Equal reports whether two arenas have the same nodes.
func (a *Arena) Equal(b *Arena) bool {
	return slices.EqualFunc(a.stored(), b.stored(), func(n, m node) bool {
		return alike(n.Node, m.Node) && linkedAlike(n.Node, m.Node) && n.inert == m.inert
	})
}

// Same reports whether two nodes have equal trees. Trees are equal if walks
// through both meet nodes that are alike at the same depths; and only templates
// have contents, so that these are met in both or in none.
func (a *Arena) Same(h int, b *Arena, k int) bool {
	if a.check(h) != api.OK || b.check(k) != api.OK {
		return false
	}
	return slices.EqualFunc(a.preorder(h), b.preorder(k), func(v, w visit) bool {
		return v.depth == w.depth && alike(a.at(v.handle).Node, b.at(w.handle).Node)
	})
}

// alike compares all but links.
func alike(n, m api.Node) bool {
	return n.Kind == m.Kind &&
		n.Space == m.Space && n.Name == m.Name && slices.Equal(n.Attrs, m.Attrs) &&
		n.Data == m.Data &&
		n.Public == m.Public && n.System == m.System &&
		n.Quirks == m.Quirks
}

// linkedAlike compares links.
func linkedAlike(n, m api.Node) bool {
	return n.Parent == m.Parent && slices.Equal(n.Kids, m.Kids) &&
		n.Doc == m.Doc &&
		n.Contents == m.Contents && n.Host == m.Host
}
