package dom_test

import (
	"testing"

	"thicket/api"
	"thicket/arena"
	"thicket/dom"
)

// P5.4: every node, for every document.
func TestCopiesByRules(t *testing.T) {
	a, from := page(t), page(t)
	from.SetData(10, "another")
	for _, h := range anyHandles() {
		checkOn(t, a, clone(h, false), clone(h, true))
		for _, doc := range anyHandles() {
			checkOn(t, a, importing(doc, from, h), importingOwn(doc, h))
		}
	}
	if b := page(t); !a.Equal(b) || b.SetData(10, "another") != api.OK || !from.Equal(b) {
		t.Error("an original changed")
	}
}

// P5.4: the nodes of deep copies, in their order.
func TestDeepCopies(t *testing.T) {
	a := page(t)
	h, e := dom.Clone(a, 1, true) // the document, 37
	if h != 37 || e != api.OK || nodeOf(a, 37).Doc != 37 || !nodeOf(a, 37).Quirks || !a.Same(1, a, 37) {
		t.Fatalf("Clone(1, true) = %d, %d", h, e)
	}
	kidsAre(t, a, 37, 38, 39)
	kidsAre(t, a, 39, 40, 41, 50)
	if n := nodeOf(a, 41); n.Name != "template" || n.Contents != 43 || nodeOf(a, 42).Kind != api.Document || nodeOf(a, 43).Host != 41 {
		t.Errorf("the copy of the template: %+v", n)
	}
	kidsAre(t, a, 43, 44, 46)
	kidsAre(t, a, 44, 45)
	kidsAre(t, a, 47, 48)
	kidsAre(t, a, 41, 49)
	docsAre(t, a, map[int]int{38: 37, 39: 37, 40: 37, 41: 37, 42: 42, 43: 42, 44: 42, 45: 42, 46: 42, 47: 42, 48: 42, 49: 37, 50: 37})
	if a.Dump(37) != a.Dump(1) {
		t.Errorf("%s, want %s", a.Dump(37), a.Dump(1))
	}
}

// P5.4: copies that are not deep.
func TestCopiesAlone(t *testing.T) {
	for _, x := range []struct {
		h, nodes int
		want     string
	}{
		{1, 1, "document quirks\n"}, {29, 1, "document\n"}, {2, 1, "doctype \"html\" \"p\" \"s\"\n"}, {4, 1, "comment \"c\"\n"}, {34, 1, "text \"h\"\n"}, {24, 1, "fragment\n"}, {7, 1, "fragment\n"}, {12, 1, "fragment\n"},
		{5, 2, "element 1 \"template\" 0:\"id\"=\"t\"\n  contents\n"}, {14, 1, "element 1 \"p\" 5:\"id\"=\"x\" 0:\"id\"=\"x\" 0:\"LANG\"=\"y\"\n"}, {22, 1, "element 2 \"Svg\" 0:\"id\"=\"w\" 0:\"Lang\"=\"e\"\n"},
		{31, 1, "element 2 \"template\"\n"},
	} {
		a := page(t)
		h, e := dom.Clone(a, x.h, false)
		n := nodeOf(a, h)
		if h != pageNodes+1 || e != api.OK || a.Len() != pageNodes+x.nodes || a.Dump(h) != x.want || n.Parent != 0 || n.Host != 0 {
			t.Errorf("Clone(%d, false) = %d, %d: %s, want %s", x.h, h, e, a.Dump(h), x.want)
		}
		doc := nodeOf(a, x.h).Doc
		if n.Kind == api.Document {
			doc = h
		}
		if n.Doc != doc {
			t.Errorf("the node document of Clone(%d, false) is %d", x.h, n.Doc)
		}
	}
}

// P5.4: an inert document is created directly before the first contents.
func TestImportTemplate(t *testing.T) {
	from, to := page(t), arena.New()
	to.Document(false)
	h, e := dom.Import(to, 1, from, 5)
	if h != 2 || e != api.OK || !from.Same(5, to, 2) {
		t.Fatalf("Import = %d, %d", h, e)
	}
	docsAre(t, to, map[int]int{1: 1, 2: 1, 3: 3, 4: 3, 5: 3, 6: 3, 7: 3, 8: 3, 9: 3, 10: 1})
	for k, want := range map[int]api.Kind{2: api.Element, 3: api.Document, 4: api.Fragment, 5: api.Element, 6: api.Text, 7: api.Element, 8: api.Fragment, 9: api.Text, 10: api.Text} {
		if got := nodeOf(to, k).Kind; got != want {
			t.Errorf("the kind of %d is %d, want %d", k, got, want)
		}
	}
	if h, e = dom.Import(to, 1, from, 7); h != 11 || e != api.OK || nodeOf(to, 11).Host != 0 || nodeOf(to, 11).Doc != 1 || !to.Contains(11, 12) { // contents become a fragment
		t.Errorf("Import of contents = %d, %d", h, e)
	}
	docsAre(t, to, map[int]int{12: 1, 13: 1, 14: 1, 15: 3, 16: 3})
	if !arena.Sound(to.Nodes()) || !from.Equal(page(t)) {
		t.Error("unsound, or the original changed")
	}
}

// P5.4: the errors in their order.
func TestCopyErrors(t *testing.T) {
	a, b := page(t), page(t)
	for _, x := range []struct {
		doc, h int
		want   api.Errno
	}{
		{0, 4, api.ErrHandle}, {3, 0, api.ErrHandle}, {pageNodes + 1, 1, api.ErrHandle}, {1, pageNodes + 1, api.ErrHandle}, {3, 4, api.ErrKind}, {24, 4, api.ErrKind}, {1, 1, api.ErrKind}, {1, 29, api.ErrKind}, {1, 6, api.ErrKind},
	} {
		if h, e := dom.Import(a, x.doc, b, x.h); h != 0 || e != x.want {
			t.Errorf("Import(%d, %d) = %d, %d, want %d", x.doc, x.h, h, e, x.want)
		}
	}
	for _, h := range noHandles() {
		if k, e := dom.Clone(a, h, true); k != 0 || e != api.ErrHandle {
			t.Errorf("Clone(%d) = %d, %d", h, k, e)
		}
	}
	small := arena.New() // the handles are those of two arenas
	small.Document(false)
	if h, e := dom.Import(small, 1, a, 20); h != 2 || e != api.OK {
		t.Errorf("Import of 20 = %d, %d", h, e)
	}
	if h, e := dom.Import(a, 29, small, 20); h != 0 || e != api.ErrHandle {
		t.Errorf("Import of no node = %d, %d", h, e)
	}
	if !a.Equal(page(t)) {
		t.Error("errors create nodes")
	}
}

// P5.4: copies are independent of their originals.
func TestCopiesAreIndependent(t *testing.T) {
	for _, h := range anyHandles() {
		a := page(t)
		k, e := dom.Clone(a, h, true)
		if e != api.OK {
			continue
		}
		if !a.Same(h, a, k) || !arena.Sound(a.Nodes()) {
			t.Errorf("Clone(%d, true)", h)
		}
		dump := a.Dump(h)
		for below := k; below <= a.Len(); below++ {
			a.SetData(below, "changed")
			dom.SetAttribute(a, below, 0, "id", "changed")
			dom.Detach(a, below)
		}
		if a.Dump(h) != dump {
			t.Errorf("the original of Clone(%d, true) changed", h)
		}
	}
}

// P5.4, R3: nil arenas, the second one included.
func TestCopiesOfNil(t *testing.T) {
	a := page(t)
	for _, h := range anyHandles() {
		checkNil(t, clone(h, true), clone(h, false), importing(h, a, 1), importing(1, a, h), importing(h, nil, h), importingOwn(h, h))
		checkOn(t, a, importing(h, nil, 4), importing(3, nil, h), importing(h, nil, h))
		if _, e := dom.Import(a, h, nil, h); e != api.ErrNil {
			t.Errorf("Import(%d) from nil = %d", h, e)
		}
	}
}
