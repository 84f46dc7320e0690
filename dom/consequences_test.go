package dom_test

import (
	"fmt"
	"math/rand/v2"
	"slices"
	"testing"

	"thicket/api"
	"thicket/arena"
	"thicket/dom"
)

// changes makes calls on an arena. Most of them are possible.
type changes struct {
	*rand.Rand
	arena, from *arena.Arena
	attrs       []api.Attr
}

func (c changes) handle() int {
	return c.IntN(c.arena.Len()+3) - 1
}

// of is mostly a handle of a node of one of the kinds.
func (c changes) of(kinds ...api.Kind) int {
	for range 40 {
		if h := c.handle(); slices.Contains(kinds, nodeOf(c.arena, h).Kind) {
			return h
		}
	}
	return c.handle()
}

func (c changes) parent() int {
	return c.of(api.Document, api.Element, api.Fragment)
}

// place is mostly a parent and one of its children.
func (c changes) place() (parent, child int) {
	for range 10 {
		parent = c.parent()
		if kids := c.arena.Kids(parent); len(kids) > 0 {
			return parent, kids[c.IntN(len(kids))]
		}
	}
	return parent, 0
}

func (c changes) name() string {
	return []string{"template", "TEMPLATE", "p", "P", "id", "", "a b"}[c.IntN(7)]
}

func (c changes) space() api.Space {
	return []api.Space{0, 0, 0, api.HTML, api.XML, 8}[c.IntN(6)]
}

func (c changes) data() string {
	return []string{"", "", "a", "bc", "\u00E9"}[c.IntN(5)]
}

// creation is a call of layer 4 that P5.7 allows.
func (c changes) creation() call {
	doc := c.of(api.Document)
	name, data, attrs := c.name(), c.data(), c.attrs[:c.IntN(len(c.attrs)+1)]
	space := []api.Space{api.HTML, api.HTML, api.HTML, api.SVG}[c.IntN(4)]
	switch c.IntN(9) {
	case 0:
		return other("Document", func(a *arena.Arena) { a.Document(data == "") })
	case 1:
		return other(fmt.Sprintf("Inert(%d)", doc), func(a *arena.Arena) { a.Inert(doc) })
	case 2:
		return other(fmt.Sprintf("Doctype(%d)", doc), func(a *arena.Arena) { a.Doctype(doc, name, data, data) })
	case 3:
		return other(fmt.Sprintf("Fragment(%d)", doc), func(a *arena.Arena) { a.Fragment(doc) })
	case 4:
		return other(fmt.Sprintf("Comment(%d)", doc), func(a *arena.Arena) { a.Comment(doc, data) })
	case 5, 6:
		return other(fmt.Sprintf("Text(%d, %q)", doc, data), func(a *arena.Arena) { a.Text(doc, data) })
	}
	return other(fmt.Sprintf("Element(%d, %d, %q)", doc, space, name), func(a *arena.Arena) { a.Element(doc, space, name, attrs) })
}

// rearrangement is a call of this layer that moves nodes.
func (c changes) rearrangement() call {
	parent, child := c.place()
	switch c.IntN(10) {
	case 0:
		return insert(c.handle(), c.handle(), c.handle())
	case 1:
		return replace(c.handle(), c.handle(), c.handle())
	case 2:
		return remove(parent, child)
	case 3:
		return replaceAll(c.parent(), c.of(api.Fragment)*c.IntN(2))
	case 4:
		return adopt(c.handle(), c.of(api.Document))
	case 5, 6:
		return replace(parent, c.handle(), child)
	case 7:
		return appending(parent, c.handle())
	}
	return insert(parent, c.handle(), child)
}

// alteration is another call of this layer.
func (c changes) alteration() call {
	h := c.handle()
	switch c.IntN(12) {
	case 0:
		return createElement(c.of(api.Document), c.name())
	case 1:
		return attribute(c.of(api.Element), c.space(), c.name())
	case 2:
		return setAttribute(c.of(api.Element), c.space(), c.name(), c.data())
	case 3:
		return removeAttribute(c.of(api.Element), c.space(), c.name())
	case 4:
		return textContent(h)
	case 5:
		return setTextContent(c.of(api.Element, api.Fragment, api.Comment), c.data())
	case 6:
		return normalize(h)
	case 7:
		return split(c.of(api.Text), c.IntN(4)-1)
	case 8:
		return byName(h, c.name())
	case 9:
		return byID(h, c.data())
	case 10:
		return detach(h)
	}
	return before(h, c.handle())
}

// duplication is a call that copies nodes. It is rare while there are many.
func (c changes) duplication() call {
	h := c.handle()
	if c.arena.Len() > 250 {
		return clone(h, false)
	}
	switch c.IntN(4) {
	case 0:
		return importing(c.of(api.Document), c.from, c.IntN(c.from.Len()+2))
	case 1:
		return importingOwn(c.of(api.Document), h)
	}
	return clone(h, c.IntN(2) == 0)
}

// intrusion is a call of layer 4 that P5.7 does not allow.
func (c changes) intrusion() call {
	parent, child := c.place()
	node, doc := c.handle(), c.of(api.Document)
	switch c.IntN(3) {
	case 0:
		return other(fmt.Sprintf("SetDoc(%d, %d)", node, doc), func(a *arena.Arena) { a.SetDoc(node, doc) })
	case 1:
		return other(fmt.Sprintf("Put(%d, %d, 0)", parent, node), func(a *arena.Arena) { a.Put(parent, node, 0) })
	}
	return other(fmt.Sprintf("Put(%d, %d, %d)", parent, node, child), func(a *arena.Arena) { a.Put(parent, node, child) })
}

func (c changes) next() call {
	switch c.IntN(12) {
	case 0, 1, 2:
		return c.creation()
	case 3:
		return c.duplication()
	case 4, 5, 6:
		return c.alteration()
	}
	return c.rearrangement()
}

// run makes calls, and calls each after each one.
func run(t *testing.T, seed uint64, next func(c changes) call, each func(a *arena.Arena, name string) bool) {
	t.Helper()
	a := arena.New()
	a.Document(false)
	b := a.Copy()
	c := changes{rand.New(rand.NewPCG(seed, 5)), a, page(t), []api.Attr{attr(0, "id", "a"), attr(api.XML, "id", "b"), attr(0, "P", "c")}}
	for range 150 {
		step := next(c)
		if !check(t, a, b, step) || !each(a, step.name) {
			return
		}
	}
}

// P5.1 to P5.7: long sequences of calls.
func TestManyChanges(t *testing.T) {
	for seed := range uint64(120) {
		run(t, seed, changes.next, func(a *arena.Arena, name string) bool {
			return followsTheDOM(t, a, name)
		})
	}
}

// P5.1 to P5.6: long sequences in which layer 4 breaks the rules of the DOM now
// and then. This layer follows its own all the same.
func TestManyChangesWithIntrusions(t *testing.T) {
	next := func(c changes) call {
		if c.IntN(8) == 0 {
			return c.intrusion()
		}
		return c.next()
	}
	for seed := range uint64(120) {
		run(t, seed, next, func(a *arena.Arena, name string) bool {
			if !arena.Sound(a.Nodes()) {
				t.Errorf("not sound after %s", name)
				return false
			}
			return true
		})
	}
}

// followsTheDOM reports whether what P5.7 promises holds, and says it if not.
func followsTheDOM(t *testing.T, a *arena.Arena, name string) bool {
	t.Helper()
	nodes := a.Nodes()
	if !arena.Sound(nodes) {
		t.Errorf("not sound after %s", name)
		return false
	}
	for i, n := range nodes {
		if n.Kind == api.Document && !isDocumentList(a, n.Kids) {
			t.Errorf("the document %d after %s: %s", i+1, name, a.Dump(i+1))
			return false
		}
		if n.Parent != 0 && n.Doc != nodes[n.Parent-1].Doc {
			t.Errorf("the node document of %d after %s", i+1, name)
			return false
		}
		if n.Contents != 0 && nodes[n.Contents-1].Doc != inertOf(a, n.Doc) {
			t.Errorf("the node document of the contents of %d after %s", i+1, name)
			return false
		}
	}
	return true
}

// isDocumentList reports whether a document may have these children.
func isDocumentList(a *arena.Arena, kids []int) bool {
	letters := ""
	for _, h := range kids {
		switch kindOf(a, h) {
		case api.Doctype:
			letters += "d"
		case api.Element:
			letters += "e"
		case api.Comment:
		default:
			return false
		}
	}
	return slices.Contains([]string{"", "d", "e", "de"}, letters)
}

// inertOf returns the inert document of a document, which must have one.
func inertOf(a *arena.Arena, doc int) int {
	inert, _ := a.Copy().Inert(doc)
	return inert
}

// P0.1: a tree of as many levels as the limits allow.
func TestDeepTree(t *testing.T) {
	const levels = 1 << 16
	a := arena.New()
	a.Document(false)
	a.Document(false)
	a.Element(1, api.HTML, "p", nil)
	for h := 4; h < levels; h++ {
		a.Element(1, api.HTML, "p", nil)
		if e := dom.Append(a, h-1, h); e != api.OK {
			t.Fatalf("Append of level %d = %d", h, e)
		}
	}
	a.Text(1, "deep")
	dom.Append(a, levels-1, levels)
	if e := dom.Append(a, levels-1, 3); e != api.ErrHierarchy {
		t.Errorf("Append of the root = %d", e)
	}
	if e := dom.Adopt(a, 3, 2); e != api.OK || nodeOf(a, levels).Doc != 2 {
		t.Errorf("Adopt = %d", e)
	}
	if s, e := dom.TextContent(a, 3); s != "deep" || e != api.OK {
		t.Errorf("TextContent = %q, %d", s, e)
	}
	if len(dom.ByName(a, 3, "P")) != levels-4 || !dom.Before(a, 3, levels) || dom.Before(a, levels, 4) || dom.Normalize(a, 3) != api.OK {
		t.Error("queries")
	}
	b := arena.New()
	b.Document(false)
	if h, e := dom.Clone(a, 3, true); h != levels+1 || e != api.OK || !a.Same(3, a, h) {
		t.Errorf("Clone = %d, %d", h, e)
	}
	if h, e := dom.Import(b, 1, a, 3); h != 2 || e != api.OK || !a.Same(3, b, h) {
		t.Errorf("Import = %d, %d", h, e)
	}
}

// P0.1: templates in templates.
func TestDeepTemplates(t *testing.T) {
	const levels = 1 << 14
	a := arena.New()
	a.Document(false)
	a.Inert(1)
	a.Document(false)
	contents := 0
	for range levels {
		h, _ := dom.CreateElement(a, 2, "template")
		if contents != 0 && dom.Append(a, contents, h) != api.OK {
			t.Fatalf("Append(%d, %d)", contents, h)
		}
		contents = nodeOf(a, h).Contents
	}
	last := a.Len()
	if e := dom.Adopt(a, 4, 3); e != api.OK || nodeOf(a, 4).Doc != 3 || nodeOf(a, contents).Doc != last+1 || a.Len() != last+1 {
		t.Errorf("Adopt = %d", e)
	}
	if dom.Append(a, contents, 4) != api.ErrHierarchy || len(dom.ByName(a, 4, "*")) != 0 {
		t.Error("deep templates")
	}
	if h, e := dom.Clone(a, 4, true); h != last+2 || e != api.OK || !a.Same(4, a, h) {
		t.Errorf("Clone = %d, %d", h, e)
	}
}

// P0.1: a node with many children.
func TestManyChildren(t *testing.T) {
	const kids = 1 << 14
	a := arena.New()
	a.Document(false)
	a.Element(1, api.HTML, "p", nil)
	a.Fragment(1)
	for range kids {
		h, _ := a.Text(1, "x")
		if e := dom.Append(a, 3, h); e != api.OK {
			t.Fatalf("Append(3, %d) = %d", h, e)
		}
	}
	if e := dom.Append(a, 2, 3); e != api.OK || len(a.Kids(2)) != kids || len(a.Kids(3)) != 0 {
		t.Errorf("Append(2, 3) = %d", e)
	}
	if !dom.Before(a, 4, kids+3) || dom.Before(a, kids+3, 4) {
		t.Error("Before")
	}
	if e := dom.Normalize(a, 2); e != api.OK || len(nodeOf(a, 4).Data) != kids {
		t.Errorf("Normalize(2) = %d", e)
	}
	kidsAre(t, a, 2, 4)
}

// P0.1, R3: the zero arena has no nodes.
func TestZeroArena(t *testing.T) {
	for _, h := range anyHandles() {
		checkOn(t, &arena.Arena{},
			validate(h, h, h), insert(h, h, h), appending(h, h), replace(h, h, h), remove(h, h), detach(h), replaceAll(h, h), adopt(h, h),
			createElement(h, "p"), attribute(h, 0, "id"), setAttribute(h, 0, "id", ""), removeAttribute(h, 0, "id"), clone(h, true), importingOwn(h, h),
			textContent(h), setTextContent(h, "x"), normalize(h), split(h, 0), byName(h, "*"), byID(h, "x"), before(h, h))
	}
}
