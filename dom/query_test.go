package dom_test

import (
	"slices"
	"testing"

	"thicket/api"
	"thicket/arena"
	"thicket/dom"
)

// P5.6: every query with every handle. Queries change nothing.
func TestQueriesEverywhere(t *testing.T) {
	a := page(t)
	for _, h := range anyHandles() {
		for _, s := range strange() {
			check(t, a, page(t), byName(h, s))
			check(t, a, page(t), byID(h, s))
		}
		for _, k := range anyHandles() {
			check(t, a, page(t), before(h, k))
		}
	}
}

// P5.6: ByName. Contents, and the node itself, are not below a node.
func TestByName(t *testing.T) {
	a := page(t)
	for _, x := range []struct {
		h    int
		name string
		want []int
	}{
		{1, "p", []int{14}}, {1, "P", []int{14}}, {1, "*", []int{3, 5, 14, 17}}, {3, "*", []int{5, 14, 17}}, {3, "html", nil}, {1, "HTML", []int{3}}, {1, "", nil}, {17, "b", nil}, {5, "*", nil}, {5, "p", nil},
		{7, "*", []int{9, 11}}, {7, "P", []int{9}}, {11, "*", nil}, {1, "template", []int{5}}, {1, "TEMPLATE", []int{5}},
		{21, "Svg", []int{22}}, {21, "svg", nil}, {21, "SVG", nil}, {24, "p", []int{25}}, {24, "P", []int{25}}, {24, "*", []int{25, 27}}, {29, "template", []int{31}}, {29, "Template", nil},
		{28, "*", nil}, {34, "*", nil}, {2, "html", nil}, {0, "*", nil}, {-1, "*", nil}, {pageNodes + 1, "*", nil},
	} {
		if got := dom.ByName(a, x.h, x.name); !slices.Equal(got, x.want) {
			t.Errorf("ByName(%d, %q) = %v, want %v", x.h, x.name, got, x.want)
		}
	}
}

// P5.6: names that no element can be created with by this layer.
func TestByStrangeNames(t *testing.T) {
	a := arena.New()
	a.Document(false)
	a.Fragment(1)
	for _, name := range []string{"", "*", "a b", "\xFF", "A"} {
		h, _ := a.Element(1, api.HTML, name, nil)
		put(t, a, 2, h)
		h, _ = a.Element(1, api.Other, name, nil)
		put(t, a, 2, h)
	}
	for name, want := range map[string][]int{"": {3, 4}, "*": {3, 4, 5, 6, 7, 8, 9, 10, 11, 12}, "a b": {7, 8}, "A B": {7}, "\xFF": {9, 10}, "A": {12}, "a": nil} {
		if got := dom.ByName(a, 2, name); !slices.Equal(got, want) {
			t.Errorf("ByName(2, %q) = %v, want %v", name, got, want)
		}
	}
}

// P5.6: ByID.
func TestByID(t *testing.T) {
	a := page(t)
	for _, x := range []struct {
		h    int
		id   string
		want int
	}{
		{1, "x", 14}, {3, "x", 14}, {14, "x", 0}, {1, "t", 5}, {5, "t", 0}, {5, "x", 0}, {7, "x", 9}, {1, "z", 0}, {1, "y", 0}, {1, "X", 0}, {1, "", 0}, {17, "", 0}, {21, "w", 22}, {22, "w", 0}, {24, "", 0}, {2, "x", 0}, {34, "x", 0},
		{0, "x", 0}, {-1, "x", 0}, {pageNodes + 1, "x", 0},
	} {
		if got := dom.ByID(a, x.h, x.id); got != x.want {
			t.Errorf("ByID(%d, %q) = %d, want %d", x.h, x.id, got, x.want)
		}
	}
	a.SetAttrs(17, []api.Attr{attr(0, "a", "x"), attr(0, "id", "two")})
	a.SetAttrs(25, []api.Attr{attr(0, "id", "")})
	a.SetAttrs(14, []api.Attr{attr(0, "id", "two")})
	a.SetAttrs(5, []api.Attr{attr(api.XML, "id", "two"), attr(0, "ID", "two"), attr(0, "name", "two")})
	if dom.ByID(a, 1, "two") != 14 || dom.ByID(a, 14, "two") != 17 || dom.ByID(a, 24, "") != 0 || dom.ByID(a, 1, "x") != 0 {
		t.Error("the first one of several, or an empty one")
	}
}

// P5.6: Before.
func TestBefore(t *testing.T) {
	a := page(t)
	order := []int{1, 2, 3, 4, 5, 8, 14, 15, 16, 17, 18, 19, 20}
	for i, h := range order {
		for j, k := range order {
			if got := dom.Before(a, h, k); got != (i < j) {
				t.Errorf("Before(%d, %d) = %v", h, k, got)
			}
		}
	}
	for _, x := range [][2]int{{5, 7}, {7, 8}, {9, 14}, {14, 9}, {1, 29}, {29, 1}, {21, 24}, {33, 34}, {7, 12}, {12, 7}, {7, 5}, {0, 1}, {1, 0}, {0, 0}, {1, pageNodes + 1}, {pageNodes + 1, pageNodes + 1}, {-1, 1}, {-1, -1}} {
		if dom.Before(a, x[0], x[1]) {
			t.Errorf("Before(%d, %d)", x[0], x[1])
		}
	}
	if !dom.Before(a, 7, 11) || !dom.Before(a, 10, 11) || dom.Before(a, 11, 10) || !dom.Before(a, 21, 23) || !dom.Before(a, 25, 27) {
		t.Error("Before in other trees")
	}
}

// P5.6: Before is a strict total order on the nodes of one tree, whatever their
// handles are.
func TestBeforeIsAnOrder(t *testing.T) {
	a := page(t)
	for _, x := range [][3]int{{3, 20, 4}, {17, 4, 18}, {3, 34, 5}, {34, 0, 0}, {14, 22, 16}, {22, 27, 23}} {
		dom.Insert(a, x[0], x[1], x[2])
	}
	for h := 1; h <= pageNodes; h++ {
		for k := 1; k <= pageNodes; k++ {
			either := dom.Before(a, h, k) != dom.Before(a, k, h)
			if comparable := h != k && a.Root(h) == a.Root(k); either != comparable {
				t.Errorf("%d and %d: %v, want %v", h, k, either, comparable)
			}
			for m := 1; m <= pageNodes; m++ {
				if dom.Before(a, h, k) && dom.Before(a, k, m) && !dom.Before(a, h, m) {
					t.Errorf("%d, %d, %d", h, k, m)
				}
			}
		}
	}
}

// P5.6, R4: a list that was returned is the caller's.
func TestListsAreNew(t *testing.T) {
	a := page(t)
	clear(dom.ByName(a, 1, "*"))
	if got := dom.ByName(a, 1, "*"); !slices.Equal(got, []int{3, 5, 14, 17}) || !a.Equal(page(t)) {
		t.Errorf("%v", got)
	}
}

// P5.6, R3: a nil arena.
func TestQueriesOfNil(t *testing.T) {
	for _, h := range anyHandles() {
		if dom.ByName(nil, h, "*") != nil || dom.ByID(nil, h, "x") != 0 || dom.Before(nil, h, 1) || dom.Before(nil, 1, h) || dom.Before(nil, h, h) {
			t.Errorf("queries of %d of nil", h)
		}
	}
}
