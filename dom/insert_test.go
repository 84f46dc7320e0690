package dom_test

import (
	"fmt"
	"testing"

	"thicket/api"
	"thicket/arena"
	"thicket/dom"
)

// P5.1: every node into every parent before every child, and in the place of
// every child.
func TestInsertEverywhere(t *testing.T) {
	a := page(t)
	for _, parent := range anyHandles() {
		for _, node := range anyHandles() {
			calls := []call{appending(parent, node)}
			for _, child := range anyHandles() {
				calls = append(calls, validate(parent, node, child), insert(parent, node, child), replace(parent, node, child))
			}
			checkOn(t, a, calls...)
		}
	}
}

// P5.1: the errors in their order.
func TestInsertErrors(t *testing.T) {
	a := page(t)
	for _, x := range []struct {
		parent, node, child int
		want                api.Errno
	}{
		{0, 34, 0, api.ErrHandle}, {-1, 34, 0, api.ErrHandle}, {3, 0, 0, api.ErrHandle}, {3, 34, -1, api.ErrHandle}, {3, 34, pageNodes + 1, api.ErrHandle},
		{34, 1, pageNodes + 1, api.ErrHandle}, {3, 3, -1, api.ErrHandle},
		{2, 34, 0, api.ErrHierarchy}, {34, 25, 0, api.ErrHierarchy}, {4, 25, 0, api.ErrHierarchy}, {34, 25, 10, api.ErrHierarchy}, {33, 34, 25, api.ErrHierarchy},
		{3, 3, 0, api.ErrHierarchy}, {14, 3, 0, api.ErrHierarchy}, {14, 3, 10, api.ErrHierarchy}, {14, 1, 0, api.ErrHierarchy}, {14, 1, 10, api.ErrHierarchy}, {7, 5, 0, api.ErrHierarchy}, {12, 5, 0, api.ErrHierarchy}, {9, 3, 10, api.ErrHierarchy},
		{25, 24, 0, api.ErrHierarchy}, {36, 35, 0, api.ErrHierarchy},
		{3, 34, 15, api.ErrNotFound}, {3, 34, 3, api.ErrNotFound}, {3, 34, 34, api.ErrNotFound}, {3, 29, 1, api.ErrNotFound}, {1, 34, 4, api.ErrNotFound}, {3, 33, 15, api.ErrNotFound}, {5, 34, 9, api.ErrNotFound}, {29, 25, 3, api.ErrNotFound},
		{3, 29, 0, api.ErrHierarchy}, {3, 29, 4, api.ErrHierarchy}, {28, 32, 0, api.ErrHierarchy}, {29, 32, 0, api.ErrHierarchy},
		{1, 34, 0, api.ErrHierarchy}, {1, 34, 2, api.ErrHierarchy}, {32, 34, 0, api.ErrHierarchy}, {3, 33, 0, api.ErrHierarchy}, {28, 33, 0, api.ErrHierarchy}, {3, 2, 4, api.ErrHierarchy},
		{1, 25, 0, api.ErrHierarchy}, {1, 3, 0, api.ErrHierarchy}, {1, 3, 3, api.ErrHierarchy}, {1, 3, 2, api.ErrHierarchy}, {29, 25, 0, api.ErrHierarchy}, {1, 33, 0, api.ErrHierarchy}, {1, 33, 3, api.ErrHierarchy}, {1, 2, 2, api.ErrHierarchy}, {29, 33, 0, api.ErrHierarchy},
		{32, 24, 0, api.ErrHierarchy}, {32, 7, 0, api.ErrHierarchy}, {1, 21, 0, api.ErrHierarchy}, {1, 21, 2, api.ErrHierarchy},
		{32, 25, 0, api.OK}, {32, 33, 0, api.OK}, {32, 21, 0, api.OK}, {32, 28, 0, api.OK}, {32, 4, 0, api.OK}, {1, 4, 0, api.OK}, {1, 4, 2, api.OK}, {1, 28, 2, api.OK}, {29, 33, 30, api.OK}, {29, 33, 31, api.OK},
		{3, 34, 0, api.OK}, {3, 4, 4, api.OK}, {3, 14, 4, api.OK}, {3, 24, 5, api.OK}, {5, 7, 0, api.OK}, {7, 24, 11, api.OK}, {28, 3, 0, api.OK}, {28, 34, 0, api.OK}, {22, 36, 23, api.OK},
	} {
		if got := dom.Validate(a, x.parent, x.node, x.child); got != x.want {
			t.Errorf("Validate(%d, %d, %d) = %d, want %d", x.parent, x.node, x.child, got, x.want)
		}
		b := a.Copy()
		if got := dom.Insert(b, x.parent, x.node, x.child); got != x.want || got != api.OK && !a.Equal(b) {
			t.Errorf("Insert(%d, %d, %d) = %d, want %d", x.parent, x.node, x.child, got, x.want)
		}
	}
	if !a.Equal(page(t)) {
		t.Error("Validate changes nodes")
	}
}

// P5.1: where the conditions on a replacement are not those on an insertion.
func TestReplaceErrors(t *testing.T) {
	a := page(t)
	for _, x := range []struct {
		parent, node, child int
		want                api.Errno
	}{
		{3, 34, 0, api.ErrHandle}, {0, 34, 4, api.ErrHandle}, {3, 0, 4, api.ErrHandle}, {3, 34, -1, api.ErrHandle}, {34, 1, pageNodes + 1, api.ErrHandle},
		{34, 25, 10, api.ErrHierarchy}, {14, 3, 10, api.ErrHierarchy}, {7, 5, 9, api.ErrHierarchy},
		{3, 34, 15, api.ErrNotFound}, {3, 34, 34, api.ErrNotFound}, {3, 29, 15, api.ErrNotFound}, {3, 33, 15, api.ErrNotFound},
		{3, 29, 4, api.ErrHierarchy}, {1, 34, 3, api.ErrHierarchy}, {3, 33, 4, api.ErrHierarchy},
		{1, 25, 3, api.OK}, {1, 25, 2, api.ErrHierarchy}, {1, 3, 2, api.ErrHierarchy}, {1, 21, 3, api.OK}, {1, 21, 2, api.ErrHierarchy}, {1, 24, 3, api.ErrHierarchy}, {1, 7, 3, api.ErrHierarchy},
		{1, 33, 2, api.OK}, {1, 33, 3, api.ErrHierarchy}, {1, 2, 3, api.ErrHierarchy}, {29, 33, 30, api.OK}, {29, 33, 31, api.OK}, {29, 25, 30, api.ErrHierarchy}, {29, 25, 31, api.OK},
		{1, 3, 3, api.OK}, {1, 2, 2, api.OK}, {1, 4, 3, api.OK}, {1, 4, 2, api.OK}, {1, 28, 3, api.OK}, {1, 14, 3, api.OK}, {3, 14, 4, api.OK}, {3, 15, 14, api.OK}, {5, 7, 8, api.OK},
	} {
		b := a.Copy()
		if got := dom.Replace(b, x.parent, x.node, x.child); got != x.want || got != api.OK && !a.Equal(b) {
			t.Errorf("Replace(%d, %d, %d) = %d, want %d", x.parent, x.node, x.child, got, x.want)
		}
	}
}

// P5.1: the sequences of children afterwards.
func TestInsertAmongChildren(t *testing.T) {
	for _, x := range []struct {
		node, child int
		want        []int
	}{
		{34, 0, []int{4, 5, 14, 34}}, {34, 4, []int{34, 4, 5, 14}}, {34, 14, []int{4, 5, 34, 14}}, {4, 4, []int{4, 5, 14}}, {5, 5, []int{4, 5, 14}}, {14, 14, []int{4, 5, 14}},
		{4, 5, []int{4, 5, 14}}, {4, 14, []int{5, 4, 14}}, {14, 4, []int{14, 4, 5}}, {4, 0, []int{5, 14, 4}}, {14, 0, []int{4, 5, 14}},
		{24, 0, []int{4, 5, 14, 25, 26, 27}}, {24, 4, []int{25, 26, 27, 4, 5, 14}}, {24, 5, []int{4, 25, 26, 27, 5, 14}}, {28, 5, []int{4, 5, 14}}, {7, 5, []int{4, 9, 11, 5, 14}},
		{17, 5, []int{4, 17, 5, 14}},
	} {
		a := page(t)
		if e := dom.Insert(a, 3, x.node, x.child); e != api.OK {
			t.Errorf("Insert(3, %d, %d) = %d", x.node, x.child, e)
		}
		kidsAre(t, a, 3, x.want...)
		if nodeOf(a, x.node).Kind == api.Fragment {
			kidsAre(t, a, x.node)
		}
		if !arena.Sound(a.Nodes()) {
			t.Errorf("Insert(3, %d, %d) leaves nodes that are not sound", x.node, x.child)
		}
	}
}

// P5.1: the sequences of children afterwards.
func TestReplaceAmongChildren(t *testing.T) {
	for _, x := range []struct {
		node, child int
		want        []int
	}{
		{34, 4, []int{34, 5, 14}}, {34, 5, []int{4, 34, 14}}, {34, 14, []int{4, 5, 34}}, {4, 4, []int{4, 5, 14}}, {5, 5, []int{4, 5, 14}}, {14, 14, []int{4, 5, 14}},
		{5, 4, []int{5, 14}}, {14, 4, []int{14, 5}}, {4, 5, []int{4, 14}}, {14, 5, []int{4, 14}}, {4, 14, []int{5, 4}}, {5, 14, []int{4, 5}},
		{24, 4, []int{25, 26, 27, 5, 14}}, {24, 5, []int{4, 25, 26, 27, 14}}, {24, 14, []int{4, 5, 25, 26, 27}}, {28, 5, []int{4, 14}}, {7, 5, []int{4, 9, 11, 14}}, {17, 14, []int{4, 5, 17}},
	} {
		a := page(t)
		if e := dom.Replace(a, 3, x.node, x.child); e != api.OK {
			t.Errorf("Replace(3, %d, %d) = %d", x.node, x.child, e)
		}
		kidsAre(t, a, 3, x.want...)
		if x.child != x.node && a.Parent(x.child) != 0 {
			t.Errorf("Replace(3, %d, %d) leaves a parent to the child", x.node, x.child)
		}
		if !arena.Sound(a.Nodes()) {
			t.Errorf("Replace(3, %d, %d) leaves nodes that are not sound", x.node, x.child)
		}
	}
}

// P5.1: what is inserted is adopted, with the contents of templates.
func TestInsertAdopts(t *testing.T) {
	a := page(t)
	dom.Append(a, 32, 3) // creates the inert document 37 of 32
	docsAre(t, a, map[int]int{2: 1, 3: 32, 4: 32, 5: 32, 6: 6, 7: 37, 8: 32, 9: 37, 10: 37, 11: 37, 12: 37, 13: 37, 14: 32, 18: 32, 37: 37})
	dom.Append(a, 32, 24) // two elements are refused, and nothing is adopted
	docsAre(t, a, map[int]int{24: 1, 25: 1, 26: 1, 27: 1})
	dom.Append(a, 7, 24) // the contents belong to an inert document
	docsAre(t, a, map[int]int{24: 1, 25: 37, 26: 37, 27: 37})
	dom.Replace(a, 3, 35, 14) // what is removed stays in its document
	docsAre(t, a, map[int]int{14: 32, 15: 32, 35: 32, 36: 37})
	if inert, _ := a.Inert(32); a.Len() != 37 || inert != 37 {
		t.Error("the inert document of 32")
	}
}

// sheet returns an arena with a document 1 that has children of the kinds, and
// the handle behind them. Some such children can only be put there by layer 4.
func sheet(t *testing.T, kinds []api.Kind) (*arena.Arena, int) {
	t.Helper()
	a := arena.New()
	a.Document(false)
	for _, k := range kinds {
		put(t, a, 1, addNode(a, k))
	}
	return a, a.Len() + 1
}

func addNode(a *arena.Arena, k api.Kind) (h int) {
	switch k {
	case api.Document:
		h = a.Document(false)
	case api.Fragment:
		h, _ = a.Fragment(1)
	case api.Doctype:
		h, _ = a.Doctype(1, "html", "", "")
	case api.Element:
		h, _ = a.Element(1, api.HTML, "p", nil)
	case api.Text:
		h, _ = a.Text(1, "x")
	case api.Comment:
		h, _ = a.Comment(1, "x")
	}
	return h
}

// kindLists calls f with all lists of at most most kinds of children.
func kindLists(most int, f func(kinds []api.Kind)) {
	var extend func(list []api.Kind)
	extend = func(list []api.Kind) {
		f(list)
		if len(list) == most {
			return
		}
		for _, k := range []api.Kind{api.Doctype, api.Element, api.Text, api.Comment} {
			extend(append(list[:len(list):len(list)], k))
		}
	}
	extend(nil)
}

// checkOnSheet checks the calls that bring a node into the document 1 at each of
// its places.
func checkOnSheet(t *testing.T, a *arena.Arena, node int) {
	t.Helper()
	checkOn(t, a, validate(1, node, 0), insert(1, node, 0))
	for _, child := range a.Kids(1) {
		checkOn(t, a, validate(1, node, child), insert(1, node, child), replace(1, node, child))
	}
}

// P5.1: nodes of all kinds into documents with children of many kinds.
func TestInsertIntoDocuments(t *testing.T) {
	kindLists(4, func(kinds []api.Kind) {
		for k := api.Document; k <= api.Comment; k++ {
			a, node := sheet(t, kinds)
			addNode(a, k)
			checkOnSheet(t, a, node)
		}
		a, _ := sheet(t, kinds)
		for _, kid := range a.Kids(1) {
			checkOnSheet(t, a, kid)
		}
	})
}

// P5.1: fragments of many kinds into documents with children of many kinds.
func TestInsertFragmentsIntoDocuments(t *testing.T) {
	kindLists(3, func(kinds []api.Kind) {
		kindLists(2, func(parts []api.Kind) {
			a, fragment := sheet(t, kinds)
			addNode(a, api.Fragment)
			for _, k := range parts {
				put(t, a, fragment, addNode(a, k))
			}
			checkOnSheet(t, a, fragment)
		})
	})
}

// P5.1: what a document may get, by the names of the kinds of its children.
func TestDocumentsPlainly(t *testing.T) {
	kinds := map[rune]api.Kind{'d': api.Doctype, 'e': api.Element, 't': api.Text, 'c': api.Comment}
	for _, x := range []struct {
		kids, node      string // a node of several letters is a fragment
		index           int    // of the child; -1: none
		insert, replace api.Errno
	}{
		{"", "e", -1, api.OK, 0}, {"", "d", -1, api.OK, 0}, {"", "c", -1, api.OK, 0}, {"", "t", -1, api.ErrHierarchy, 0}, {"", "ce", -1, api.OK, 0}, {"", "ee", -1, api.ErrHierarchy, 0}, {"", "ct", -1, api.ErrHierarchy, 0},
		{"", "cc", -1, api.OK, 0}, {"", "cd", -1, api.OK, 0},
		{"e", "e", -1, api.ErrHierarchy, 0}, {"e", "e", 0, api.ErrHierarchy, api.OK}, {"e", "ce", 0, api.ErrHierarchy, api.OK}, {"e", "ee", 0, api.ErrHierarchy, api.ErrHierarchy}, {"e", "te", 0, api.ErrHierarchy, api.ErrHierarchy},
		{"e", "d", -1, api.ErrHierarchy, 0}, {"e", "d", 0, api.OK, api.OK}, {"ec", "d", 1, api.ErrHierarchy, api.ErrHierarchy}, {"ce", "d", 1, api.OK, api.OK}, {"ec", "d", 0, api.OK, api.OK},
		{"d", "e", -1, api.OK, 0}, {"d", "e", 0, api.ErrHierarchy, api.OK}, {"cd", "e", 0, api.ErrHierarchy, api.ErrHierarchy}, {"dc", "e", 1, api.OK, api.OK}, {"dc", "e", 0, api.ErrHierarchy, api.OK}, {"ccd", "ec", 1, api.ErrHierarchy, api.ErrHierarchy},
		{"d", "d", -1, api.ErrHierarchy, 0}, {"d", "d", 0, api.ErrHierarchy, api.OK}, {"dc", "d", 1, api.ErrHierarchy, api.ErrHierarchy}, {"cd", "d", 0, api.ErrHierarchy, api.ErrHierarchy},
		{"de", "c", 0, api.OK, api.OK}, {"de", "c", 1, api.OK, api.OK}, {"de", "cc", 1, api.OK, api.OK}, {"de", "e", 1, api.ErrHierarchy, api.OK}, {"de", "d", 0, api.ErrHierarchy, api.OK}, {"de", "d", 1, api.ErrHierarchy, api.ErrHierarchy}, {"de", "e", 0, api.ErrHierarchy, api.ErrHierarchy},
	} {
		var kids []api.Kind
		for _, k := range x.kids {
			kids = append(kids, kinds[k])
		}
		a, node := sheet(t, kids)
		if len(x.node) > 1 {
			addNode(a, api.Fragment)
		}
		for _, k := range x.node {
			if h := addNode(a, kinds[k]); h != node {
				put(t, a, node, h)
			}
		}
		child := 0
		if x.index >= 0 {
			child = a.Kids(1)[x.index]
			b := a.Copy()
			if got := dom.Replace(b, 1, node, child); got != x.replace {
				t.Errorf("%s instead of %d of %s: %d, want %d", x.node, x.index, x.kids, got, x.replace)
			}
		}
		if got := dom.Insert(a, 1, node, child); got != x.insert {
			t.Errorf("%s before %d of %s: %d, want %d", x.node, x.index, x.kids, got, x.insert)
		}
	}
}

// P5.1: the examples of the chapter.
func TestExamples(t *testing.T) {
	a := arena.New()
	a.Document(false)
	a.Element(1, api.HTML, "html", nil)
	a.Element(1, api.HTML, "p", nil)
	a.Text(1, "ab")
	a.Doctype(1, "html", "", "")
	a.Fragment(1)
	put(t, a, 6, 3)
	put(t, a, 6, 4)
	for _, x := range []struct {
		got  result
		want result
	}{
		{appending(1, 2).program(a), result{}}, {appending(1, 3).program(a), result{Error: api.ErrHierarchy}}, {appending(1, 4).program(a), result{Error: api.ErrHierarchy}},
		{appending(1, 5).program(a), result{Error: api.ErrHierarchy}}, {insert(1, 5, 2).program(a), result{}},
		{appending(2, 6).program(a), result{}}, {listResult(a.Kids(2)), listResult([]int{3, 4})}, {listResult(a.Kids(6)), result{}},
		{split(4, 1).program(a), result{Handle: 7}}, {listResult(a.Kids(2)), listResult([]int{3, 4, 7})}, {textContent(2).program(a), result{Text: "ab"}},
		{normalize(2).program(a), result{}}, {listResult(a.Kids(2)), listResult([]int{3, 4})}, {result{Handle: a.Parent(7)}, result{}},
		{replace(2, 4, 3).program(a), result{}}, {listResult(a.Kids(2)), listResult([]int{4})}, {replace(2, 4, 3).program(a), result{Error: api.ErrNotFound}},
		{setAttribute(2, api.NoSpace, "LANG", "x").program(a), result{}}, {attribute(2, api.NoSpace, "lang").program(a), result{Text: "x", Is: true}}, {setAttribute(2, api.NoSpace, "a b", "x").program(a), result{Error: api.ErrChar}},
		{clone(2, true).program(a), result{Handle: 8}}, {textContent(8).program(a), result{Text: "ab"}}, {before(2, 4).program(a), result{Is: true}}, {before(4, 2).program(a), result{}},
	} {
		if got, want := fmt.Sprint(x.got), fmt.Sprint(x.want); got != want {
			t.Errorf("%s, want %s", got, want)
		}
	}
}

// P5.1, R3: a nil arena.
func TestInsertIntoNil(t *testing.T) {
	for _, h := range anyHandles() {
		checkNil(t, validate(1, 2, h), validate(h, h, h), insert(1, h, 0), insert(h, 2, h), appending(h, 2), replace(1, 2, h), replace(h, h, h))
	}
}
