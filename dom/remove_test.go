package dom_test

import (
	"testing"

	"thicket/api"
	"thicket/dom"
)

// P5.2: every call with every handle.
func TestRemoveEverything(t *testing.T) {
	a := page(t)
	for _, h := range anyHandles() {
		checkOn(t, a, detach(h))
		for _, k := range anyHandles() {
			checkOn(t, a, remove(h, k), replaceAll(h, k), adopt(h, k))
		}
	}
}

// P5.2: Remove and Detach.
func TestRemove(t *testing.T) {
	a := page(t)
	for _, x := range []struct {
		parent, child int
		want          api.Errno
	}{
		{3, 5, api.OK}, {3, 5, api.ErrNotFound}, {1, 4, api.ErrNotFound}, {4, 3, api.ErrNotFound}, {5, 7, api.ErrNotFound}, {3, 3, api.ErrNotFound}, {34, 33, api.ErrNotFound}, {1, 29, api.ErrNotFound},
		{0, 4, api.ErrHandle}, {3, 0, api.ErrHandle}, {3, pageNodes + 1, api.ErrHandle}, {-1, 4, api.ErrHandle}, {1, 2, api.OK}, {21, 22, api.OK},
	} {
		if got := dom.Remove(a, x.parent, x.child); got != x.want {
			t.Errorf("Remove(%d, %d) = %d, want %d", x.parent, x.child, got, x.want)
		}
	}
	kidsAre(t, a, 3, 4, 14)
	kidsAre(t, a, 1, 3)
	kidsAre(t, a, 5, 8)
	docsAre(t, a, map[int]int{5: 1, 7: 6, 9: 6, 2: 1})
	for h, want := range map[int]api.Errno{4: api.OK, 5: api.OK, 1: api.OK, 7: api.OK, 24: api.OK, 0: api.ErrHandle, pageNodes + 1: api.ErrHandle} {
		if got := dom.Detach(a, h); got != want || a.Parent(h) != 0 {
			t.Errorf("Detach(%d) = %d, want %d", h, got, want)
		}
	}
	kidsAre(t, a, 3, 14)
	kidsAre(t, a, 24, 25, 26, 27)
	docsAre(t, a, map[int]int{4: 1, 5: 1, 8: 1})
}

// P5.2: ReplaceAll.
func TestReplaceAll(t *testing.T) {
	a := page(t)
	for _, x := range []struct {
		parent, node int
		want         api.Errno
	}{
		{0, 24, api.ErrHandle}, {3, -1, api.ErrHandle}, {3, pageNodes + 1, api.ErrHandle}, {1, pageNodes + 1, api.ErrHandle},
		{1, 24, api.ErrKind}, {1, 0, api.ErrKind}, {29, 1, api.ErrKind}, {34, 0, api.ErrKind}, {4, 24, api.ErrKind}, {33, 24, api.ErrKind},
		{3, 25, api.ErrHierarchy}, {3, 4, api.ErrHierarchy}, {3, 1, api.ErrHierarchy}, {25, 24, api.ErrHierarchy}, {24, 24, api.ErrHierarchy}, {11, 7, api.ErrHierarchy}, {13, 7, api.ErrKind}, {12, 7, api.ErrHierarchy},
	} {
		if got := dom.ReplaceAll(a, x.parent, x.node); got != x.want {
			t.Errorf("ReplaceAll(%d, %d) = %d, want %d", x.parent, x.node, got, x.want)
		}
	}
	if !a.Equal(page(t)) {
		t.Error("errors change nodes")
	}
	if e := dom.ReplaceAll(a, 3, 24); e != api.OK {
		t.Errorf("ReplaceAll(3, 24) = %d", e)
	}
	kidsAre(t, a, 3, 25, 26, 27)
	kidsAre(t, a, 24)
	kidsAre(t, a, 14, 15, 16, 17, 19, 20)
	if e := dom.ReplaceAll(a, 14, 7); e != api.OK || a.Parent(15) != 0 || nodeOf(a, 7).Host != 5 {
		t.Errorf("ReplaceAll(14, 7) = %d", e)
	}
	kidsAre(t, a, 14, 9, 11)
	docsAre(t, a, map[int]int{9: 1, 10: 1, 11: 1, 12: 6, 15: 1, 7: 6})
	if e := dom.ReplaceAll(a, 5, 0); e != api.OK {
		t.Errorf("ReplaceAll(5, 0) = %d", e)
	}
	kidsAre(t, a, 5)
	if e := dom.ReplaceAll(a, 28, 0); e != api.OK {
		t.Errorf("ReplaceAll(28, 0) = %d", e)
	}
	if e := dom.ReplaceAll(a, 22, 28); e != api.OK {
		t.Errorf("ReplaceAll(22, 28) = %d", e)
	}
	kidsAre(t, a, 22)
}

// P5.2: Adopt.
func TestAdopt(t *testing.T) {
	a := page(t)
	for _, x := range []struct {
		node, doc int
		want      api.Errno
	}{
		{0, 1, api.ErrHandle}, {3, 0, api.ErrHandle}, {1, pageNodes + 1, api.ErrHandle}, {7, -1, api.ErrHandle},
		{3, 2, api.ErrKind}, {1, 29, api.ErrKind}, {1, 1, api.ErrKind}, {7, 29, api.ErrKind}, {36, 6, api.ErrKind}, {3, 24, api.ErrKind},
	} {
		if got := dom.Adopt(a, x.node, x.doc); got != x.want {
			t.Errorf("Adopt(%d, %d) = %d, want %d", x.node, x.doc, got, x.want)
		}
	}
	if !a.Equal(page(t)) {
		t.Error("errors change nodes")
	}
	if e := dom.Adopt(a, 14, 1); e != api.OK || a.Parent(14) != 0 { // the same document: it is only removed
		t.Errorf("Adopt(14, 1) = %d", e)
	}
	if e := dom.Adopt(a, 14, 29); e != api.OK || a.Len() != pageNodes { // no template: no inert document
		t.Errorf("Adopt(14, 29) = %d", e)
	}
	docsAre(t, a, map[int]int{14: 29, 15: 29, 17: 29, 18: 29, 3: 1})
	if e := dom.Adopt(a, 31, 32); e != api.OK || a.Len() != pageNodes { // a template of SVG is none
		t.Errorf("Adopt(31, 32) = %d", e)
	}
	if e := dom.Adopt(a, 3, 29); e != api.OK || a.Len() != pageNodes+1 || a.Parent(3) != 0 {
		t.Errorf("Adopt(3, 29) = %d", e)
	}
	docsAre(t, a, map[int]int{3: 29, 4: 29, 5: 29, 8: 29, 7: 37, 9: 37, 10: 37, 11: 37, 12: 37, 13: 37, 37: 37, 6: 6, 31: 32})
	if nodeOf(a, 7).Host != 5 || nodeOf(a, 37).Kind != api.Document || nodeOf(a, 37).Quirks {
		t.Error("the contents and their new document")
	}
	kidsAre(t, a, 7, 9, 11)
	if e := dom.Adopt(a, 24, 29); e != api.OK {
		t.Errorf("Adopt(24, 29) = %d", e)
	}
	docsAre(t, a, map[int]int{24: 29, 25: 29, 26: 29, 27: 29})
	kidsAre(t, a, 24, 25, 26, 27)
	if e := dom.Adopt(a, 3, 37); e != api.OK { // the inert document of an inert document is that itself
		t.Errorf("Adopt(3, 37) = %d", e)
	}
	docsAre(t, a, map[int]int{3: 37, 5: 37, 7: 37, 12: 37})
	if a.Len() != pageNodes+1 {
		t.Errorf("%d nodes", a.Len())
	}
}

// P5.2: only a node with another node document takes those below it along.
func TestAdoptMixedTrees(t *testing.T) {
	a := page(t)
	a.SetDoc(17, 29)
	dom.Adopt(a, 14, 1)
	docsAre(t, a, map[int]int{14: 1, 17: 29, 18: 1})
	dom.Adopt(a, 14, 32)
	docsAre(t, a, map[int]int{14: 32, 17: 32, 18: 32})
	a.SetDoc(7, 29)
	dom.Adopt(a, 5, 32) // creates the inert document 37
	docsAre(t, a, map[int]int{5: 32, 7: 37, 9: 37, 12: 37})
	a.SetDoc(9, 1)
	dom.Adopt(a, 5, 37) // the contents are in 37 already
	docsAre(t, a, map[int]int{5: 37, 7: 37, 9: 1})
}

// P5.2, R3: a nil arena.
func TestRemoveFromNil(t *testing.T) {
	for _, h := range anyHandles() {
		checkNil(t, remove(1, h), remove(h, 2), detach(h), replaceAll(h, 0), replaceAll(1, h), adopt(h, 1), adopt(2, h))
	}
}
