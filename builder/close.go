package builder

import (
	"thicket/api"
	"thicket/stack"
)

// CloseP closes an element p.
func (b *Builder) CloseP() {
	if b.isNone() || !b.Open.InScope(stack.ButtonScope, "p") {
		return
	}
	b.Open.Implied("p")
	b.Open.PopUntil("p")
}

// Rebuild reconstructs the active formatting elements.
func (b *Builder) Rebuild() {
	if b.isNone() {
		return
	}
	entries := b.Active.Entries
	first := len(entries)
	for first > 0 && !b.isSettled(entries[first-1]) {
		first--
	}
	for i := first; i < len(entries); i++ {
		entries[i].Node = b.Insert(startTag(entries[i]))
	}
}

// isSettled reports whether an entry needs no reconstruction: it is a marker, or
// open.
func (b *Builder) isSettled(e api.Entry) bool {
	return e.Node == 0 || b.Open.Index(e.Node) >= 0
}

// AnyEnd closes the element of an end tag, unless a special element is above it.
func (b *Builder) AnyEnd(name string) {
	if b.isNone() {
		return
	}
	for i := b.Open.Len() - 1; i >= 0; i-- {
		item := b.Open.At(i)
		if isNamed(item, name) {
			b.Open.Implied(name)
			b.Open.PopNode(item.Node)
			return
		}
		if stack.Special(item.Space, item.Name) {
			return
		}
	}
}

// EndTemplate closes a template.
func (b *Builder) EndTemplate() {
	if b.isNone() || b.Open.Last("template") < 0 {
		return
	}
	b.Open.Thorough()
	b.Open.PopUntil("template")
	b.Active.Clear()
	if last := len(b.Templates) - 1; last >= 0 {
		b.Templates = b.Templates[:last]
	}
	b.Reset()
}
