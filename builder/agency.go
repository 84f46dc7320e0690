package builder

import (
	"thicket/api"
	"thicket/stack"
)

const (
	// mostRounds is how often the adoption agency algorithm begins anew.
	mostRounds = 8
	// mostCopies is how many elements are copied in one round, beside the
	// formatting element.
	mostCopies = 3
)

// round is what one round of the adoption agency algorithm finds.
type round struct {
	name     string     // that of the end tag
	entry    api.Entry  // that of the formatting element
	low      int        // the index of the formatting element in Open
	ancestor stack.Item // the common ancestor
	block    stack.Item // the furthest block
	high     int        // the index of the furthest block in Open
	bookmark int        // the index in Active that an entry at the bookmark would get
	last     int        // the last node
}

// Agency runs the adoption agency algorithm for an end tag.
func (b *Builder) Agency(name string) {
	if b.isNone() {
		return
	}
	if top := b.Current(); isNamed(top, name) && b.Active.Index(top.Node) < 0 {
		b.Open.Pop()
		return
	}
	searches := []func(*round) bool{b.findFormatting, b.findBlock}
rounds:
	for range mostRounds {
		r := round{name: name}
		for _, finds := range searches {
			if !finds(&r) {
				break rounds
			}
		}
		b.copyBetween(&r)
		b.moveBlock(&r)
	}
}

// findFormatting finds the formatting element. If the algorithm ends without
// one, it does what is to be done instead, and returns false.
func (b *Builder) findFormatting(r *round) bool {
	r.bookmark = b.Active.Find(r.name)
	if r.bookmark < 0 {
		b.AnyEnd(r.name)
		return false
	}
	r.entry = b.Active.Entries[r.bookmark]
	r.low = b.Open.Index(r.entry.Node)
	if r.low < 0 {
		b.Active.Remove(r.entry.Node)
		return false
	}
	return r.low > 0 && b.Open.NodeInScope(stack.DefaultScope, r.entry.Node)
}

// findBlock finds the furthest block. If there is none, it closes the formatting
// element, and returns false.
func (b *Builder) findBlock(r *round) bool {
	r.high = b.Open.Furthest(r.entry.Node)
	if r.high < 0 {
		b.Open.PopNode(r.entry.Node)
		b.Active.Remove(r.entry.Node)
		return false
	}
	r.block = b.Open.At(r.high)
	r.ancestor = b.Open.At(r.low - 1)
	r.last = r.block.Node
	return true
}

// copyBetween makes copies of the formatting elements between the furthest block
// and the formatting element, each one in the next, and the furthest block in the
// first one. All other elements between them are not open any more.
func (b *Builder) copyBetween(r *round) {
	for i := r.high - 1; i > r.low; i-- {
		node := b.Open.At(i).Node
		if r.high-i > mostCopies {
			b.forget(node, r)
		}
		index := b.Active.Index(node)
		if index < 0 {
			b.Open.Remove(node)
			continue
		}
		item := b.Create(startTag(b.Active.Entries[index]), api.HTML, r.ancestor.Node)
		b.Open.Replace(node, item)
		b.Active.Entries[index].Node = item.Node
		if r.last == r.block.Node {
			r.bookmark = index + 1
		}
		b.put(r.last, b.endOf(item.Node))
		r.last = item.Node
	}
}

// moveBlock moves the last node to the common ancestor, and the content of the
// furthest block into a copy of the formatting element, which takes the place of
// the formatting element in both lists.
func (b *Builder) moveBlock(r *round) {
	b.put(r.last, b.placeFor(r.ancestor.Node))
	item := b.Create(startTag(r.entry), api.HTML, r.block.Node)
	inside := b.endOf(item.Node)
	for _, kid := range b.Tree.Kids(r.block.Node) {
		b.put(kid, inside)
	}
	b.put(item.Node, b.endOf(r.block.Node))

	b.forget(r.entry.Node, r)
	b.Active.Insert(api.Entry{Node: item.Node, Name: r.entry.Name, Attrs: r.entry.Attrs}, r.bookmark)
	b.Open.Remove(r.entry.Node)
	b.Open.Insert(item, b.Open.Index(r.block.Node)+1)
}

// forget removes the entry of a node from Active. The bookmark stays between the
// same entries.
func (b *Builder) forget(node int, r *round) {
	index := b.Active.Index(node)
	if b.Active.Remove(node) && index < r.bookmark {
		r.bookmark--
	}
}
