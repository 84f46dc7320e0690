package builder

import (
	"cmp"

	"thicket/api"
	"thicket/stack"
)

// creator creates the element of a token in a namespace, for an intended parent
// with a description.
type creator func(t api.Token, space api.Space, up api.Node) stack.Item

// Create creates the element of a token in a namespace, for an intended parent.
func (b *Builder) Create(t api.Token, space api.Space, parent int) stack.Item {
	if b.isNone() {
		return stack.Item{}
	}
	up := b.node(parent)
	if up.Contents != 0 {
		up = b.node(up.Contents)
	}
	return b.element(t, space, up)
}

// Insert inserts an element of the namespace HTML, and returns its handle.
func (b *Builder) Insert(t api.Token) int {
	return b.InsertForeign(t, api.HTML)
}

// InsertForeign inserts an element of a namespace, and returns its handle.
func (b *Builder) InsertForeign(t api.Token, space api.Space) int {
	if b.isNone() {
		return 0
	}
	return b.insert(t, space, b.element)
}

// Format inserts a formatting element, and returns its handle.
func (b *Builder) Format(t api.Token) int {
	if b.isNone() {
		return 0
	}
	h := b.Insert(t)
	b.Active.Push(api.Entry{Node: h, Name: t.Name, Attrs: t.Attrs})
	return h
}

// Char inserts a character.
func (b *Builder) Char(r rune) {
	if b.isNone() {
		return
	}
	p := b.placeFor(0)
	if p.up.Kind != api.Element && p.up.Kind != api.Fragment {
		return
	}
	previous := b.kidBefore(p)
	if n := b.node(previous); n.Kind == api.Text {
		b.Tree.SetData(previous, n.Data+string(r))
		return
	}
	if h, e := b.Tree.Text(p.up.Doc, string(r)); e == api.OK {
		b.put(h, p)
	}
}

// Comment inserts a comment at the end of a parent; with the parent 0, where an
// element would be inserted.
func (b *Builder) Comment(data string, parent int) {
	if b.isNone() {
		return
	}
	p := b.endOf(parent)
	if parent == 0 {
		p = b.placeFor(0)
	}
	switch p.up.Kind {
	case api.Document, api.Fragment, api.Element:
		if h, e := b.Tree.Comment(p.up.Doc, data); e == api.OK {
			b.put(h, p)
		}
	}
}

// RawText inserts an element whose content the lexer reads in a state.
func (b *Builder) RawText(t api.Token, state api.State) {
	if b.isNone() {
		return
	}
	b.Insert(t)
	b.Switch = state
	b.Original = b.Mode
	b.Mode = api.InText
}

// Merge adds the attributes of a token that an element does not have.
func (b *Builder) Merge(t api.Token, node int) {
	if b.isNone() {
		return
	}
	attrs := b.node(node).Attrs
	for _, attr := range t.Attrs {
		attrs = append(attrs, api.Attr{Name: attr.Name, Value: attr.Value})
	}
	// Of several attributes with one name, layer 4 keeps the first one; and it
	// leaves alone what is no element.
	b.Tree.SetAttrs(node, attrs)
}

// insert creates an element by a method, puts it at the place for the current
// node, and opens it. It returns its handle.
func (b *Builder) insert(t api.Token, space api.Space, create creator) int {
	p := b.placeFor(0)
	item := create(t, space, p.up)
	if item.Node == 0 {
		return 0
	}
	b.put(item.Node, p)
	b.Open.Push(item)
	return item.Node
}

// element is a creator. Without an intended parent, it creates the element for
// the document of the builder.
func (b *Builder) element(t api.Token, space api.Space, up api.Node) stack.Item {
	name := t.Name
	if space == api.SVG {
		name = stack.SVGName(name)
	}
	attrs := stack.Adjust(space, t.Attrs)
	h, e := b.Tree.Element(cmp.Or(up.Doc, b.Doc), space, name, attrs)
	if e != api.OK {
		return stack.Item{}
	}
	return stack.Item{Node: h, Space: space, Name: name, Point: stack.HTMLPoint(space, name, attrs)}
}

// startTag returns the start tag that an entry of Active was made for.
func startTag(e api.Entry) api.Token {
	return api.Token{Kind: api.StartTag, Name: e.Name, Attrs: e.Attrs}
}
