package arena_test

import (
	"slices"
	"testing"

	"thicket/api"
	"thicket/arena"
)

// The examples of the chapter.
func TestExamples(t *testing.T) {
	a, r := arena.New(), newByRules()
	for _, x := range []struct {
		c    change
		want int
		err  api.Errno
	}{
		{document(false), 1, api.OK}, {element(1, api.HTML, "template"), 2, api.OK},
		{inert(1), 3, api.OK}, {inert(3), 3, api.OK}, {inert(2), 0, api.ErrKind},
		{element(1, api.HTML, "p"), 5, api.OK},
		{put(4, 5, 0), 0, api.OK}, {put(5, 2, 0), 0, api.ErrHierarchy}, {put(4, 2, 0), 0, api.ErrHierarchy}, {put(5, 4, 0), 0, api.ErrHierarchy},
		{text(1, `a"b`), 6, api.OK},
		{put(5, 6, 0), 0, api.OK}, {put(5, 6, 6), 0, api.ErrNotFound}, {put(2, 6, 5), 0, api.ErrNotFound},
	} {
		if got, e := x.c.call(a); got != x.want || e != x.err {
			t.Errorf("%s = %d, %d, want %d, %d", x.c.name, got, e, x.want, x.err)
		}
		x.c.call(r)
	}
	if a.Len() != 6 || !sameNodes(a.Nodes(), r.nodes) {
		t.Errorf("%+v, want %+v", a.Nodes(), r.nodes)
	}
	if got := collect(a.Walk(2)); !slices.Equal(got, []int{2, 4, 5, 6}) || a.Root(6) != 4 || !a.Contains(2, 6) || a.Index(6) != 0 {
		t.Errorf("Walk %v, Root %d, Contains %v, Index %d", got, a.Root(6), a.Contains(2, 6), a.Index(6))
	}
	if got := a.Dump(2); got != "element 1 \"template\"\n  contents\n    element 1 \"p\"\n      text \"a\\\"b\"\n" {
		t.Errorf("Dump: %s", got)
	}
	if h, e := a.Element(1, 9, "p", nil); h != 0 || e != api.ErrArg {
		t.Errorf("Element = %d, %d", h, e)
	}
	if h, e := a.Element(1, api.HTML, "a", []api.Attr{attr(0, "id", "x"), attr(0, "id", "y")}); h != 7 || e != api.OK {
		t.Errorf("Element = %d, %d", h, e)
	}
	if n, _ := a.Node(7); !slices.Equal(n.Attrs, []api.Attr{attr(0, "id", "x")}) {
		t.Errorf("%+v", n)
	}
}

// P4.1: a new arena and the zero Arena have no nodes, and both can be used.
func TestNoNodes(t *testing.T) {
	var zero arena.Arena
	for _, a := range []*arena.Arena{arena.New(), &zero} {
		if a == nil || a.Len() != 0 || len(a.Nodes()) != 0 {
			t.Fatalf("%v has nodes", a)
		}
		if n, e := a.Node(1); e != api.ErrHandle || !sameNode(n, api.Node{}) {
			t.Errorf("Node = %+v, %d", n, e)
		}
		if h := a.Document(true); h != 1 || a.Len() != 1 {
			t.Errorf("Document = %d, %d nodes", h, a.Len())
		}
	}
	if x, y := arena.New(), arena.New(); x == y || x.Document(false) != 1 || y.Len() != 0 {
		t.Error("two new arenas are one")
	}
}

// P4.1: a node has the description that its calls made, alone and among all.
func TestNodes(t *testing.T) {
	a, r := page(t), pageByRules()
	if a.Len() != pageNodes || !sameNodes(a.Nodes(), r.nodes) {
		t.Errorf("%+v, want %+v", a.Nodes(), r.nodes)
	}
	for h := 1; h <= a.Len(); h++ {
		if n, e := a.Node(h); e != api.OK || !sameNode(n, *r.node(h)) {
			t.Errorf("Node(%d) = %+v, %d, want %+v", h, n, e, *r.node(h))
		}
	}
	for _, h := range noHandles() {
		if n, e := a.Node(h); e != api.ErrHandle || !sameNode(n, api.Node{}) {
			t.Errorf("Node(%d) = %+v, %d", h, n, e)
		}
	}
}

// P4.1: children, parents, indexes, roots and containment on the page.
func TestLinks(t *testing.T) {
	a := page(t)
	for h, want := range map[int][]int{1: {2, 3}, 3: {4, 5, 14}, 5: {8}, 6: nil, 7: {9, 11}, 11: nil, 12: {13}, 15: {16}, 17: {18, 19}, 20: nil} {
		if got := a.Kids(h); !slices.Equal(got, want) {
			t.Errorf("Kids(%d) = %v", h, got)
		}
	}
	for _, x := range []struct{ h, parent, index, root int }{
		{1, 0, -1, 1}, {2, 1, 0, 1}, {3, 1, 1, 1}, {4, 3, 0, 1}, {5, 3, 1, 1}, {6, 0, -1, 6}, {7, 0, -1, 7}, {8, 5, 0, 1}, {9, 7, 0, 7}, {10, 9, 0, 7},
		{11, 7, 1, 7}, {12, 0, -1, 12}, {13, 12, 0, 12}, {14, 3, 2, 1}, {16, 15, 0, 15}, {19, 17, 1, 17}, {20, 0, -1, 20},
	} {
		if a.Parent(x.h) != x.parent || a.Index(x.h) != x.index || a.Root(x.h) != x.root {
			t.Errorf("%d: parent %d, index %d, root %d, want %+v", x.h, a.Parent(x.h), a.Index(x.h), a.Root(x.h), x)
		}
	}
	for up, want := range map[int][]int{
		1: {1, 2, 3, 4, 5, 7, 8, 9, 10, 11, 12, 13, 14}, 5: {5, 7, 8, 9, 10, 11, 12, 13}, 6: {6}, 7: {7, 9, 10, 11, 12, 13},
		9: {9, 10}, 11: {11, 12, 13}, 12: {12, 13}, 15: {15, 16}, 18: {18}, 20: {20},
	} {
		for h := 1; h <= pageNodes; h++ {
			if a.Contains(up, h) != slices.Contains(want, h) {
				t.Errorf("Contains(%d, %d) = %v", up, h, a.Contains(up, h))
			}
		}
	}
}

// P4.1: an empty template contains its contents.
func TestEmptyTemplateContains(t *testing.T) {
	a := arena.New()
	a.Document(false)
	a.Element(1, api.HTML, "template", nil)
	a.Element(1, api.HTML, "p", nil)
	for _, x := range []struct {
		up, h int
		want  bool
	}{{2, 2, true}, {2, 4, true}, {4, 2, false}, {4, 4, true}, {3, 4, false}, {1, 2, false}, {2, 3, false}, {2, 5, false}, {5, 5, true}} {
		if a.Contains(x.up, x.h) != x.want {
			t.Errorf("Contains(%d, %d) = %v", x.up, x.h, !x.want)
		}
	}
}

// P4.1: what is no handle has no links.
func TestLinksOfNoHandles(t *testing.T) {
	a := page(t)
	for _, no := range noHandles() {
		if len(a.Kids(no)) != 0 || a.Parent(no) != 0 || a.Index(no) != -1 || a.Root(no) != 0 || a.Contains(no, no) {
			t.Errorf("%d has links", no)
		}
		for h := 1; h <= pageNodes; h++ {
			if a.Contains(no, h) || a.Contains(h, no) {
				t.Errorf("Contains of %d and %d", no, h)
			}
		}
	}
}

// P4.1, R3: a nil arena.
func TestNilHasNoNodes(t *testing.T) {
	var a *arena.Arena
	if a.Len() != 0 || a.Nodes() != nil {
		t.Error("nodes")
	}
	for _, h := range anyHandles() {
		if n, e := a.Node(h); e != api.ErrNil || !sameNode(n, api.Node{}) {
			t.Errorf("Node(%d) = %+v, %d", h, n, e)
		}
		if len(a.Kids(h)) != 0 || a.Parent(h) != 0 || a.Index(h) != -1 || a.Root(h) != 0 || a.Contains(h, h) {
			t.Errorf("%d has links", h)
		}
	}
}

// checkQueries compares all queries with the rules.
func checkQueries(t *testing.T, a *arena.Arena, r *byRules) {
	t.Helper()
	for h := -1; h <= len(r.nodes)+1; h++ {
		var kids, walk []int
		parent := 0
		if r.exists(h) {
			kids, parent = r.node(h).Kids, r.node(h).Parent
		}
		r.walk(h, 0, func(h, _ int) { walk = append(walk, h) })
		if !slices.Equal(a.Kids(h), kids) || a.Parent(h) != parent || a.Index(h) != r.index(h) || a.Root(h) != r.root(h) {
			t.Errorf("%d: children %v, parent %d, index %d, root %d", h, a.Kids(h), a.Parent(h), a.Index(h), a.Root(h))
		}
		if got := collect(a.Walk(h)); !slices.Equal(got, walk) {
			t.Errorf("Walk(%d): %v, want %v", h, got, walk)
		}
		if a.Dump(h) != r.dump(h) {
			t.Errorf("Dump(%d):\n%swant\n%s", h, a.Dump(h), r.dump(h))
		}
		for k := -1; k <= len(r.nodes)+1; k++ {
			if a.Contains(h, k) != r.contains(h, k) || a.Same(h, a, k) != r.same(h, r, k) {
				t.Errorf("%d, %d: Contains %v, Same %v", h, k, a.Contains(h, k), a.Same(h, a, k))
			}
		}
	}
}

// P4.1, P4.2, P4.5: all queries about all nodes of the page.
func TestQueries(t *testing.T) {
	checkQueries(t, page(t), pageByRules())
}

// P4.1, R4: a caller that changes a result does not change the arena, or
// another result.
func TestResultsAreNewMemory(t *testing.T) {
	a, r := page(t), pageByRules()
	spoil := func(nodes []api.Node) {
		for _, n := range nodes {
			for i := range n.Kids {
				n.Kids[i] = -1
			}
			for i := range n.Attrs {
				n.Attrs[i] = attr(-1, "changed", "changed")
			}
			_, _ = append(n.Kids, -1), append(n.Attrs, attr(-1, "", ""))
		}
		clear(nodes)
	}
	before := a.Nodes()
	spoil(a.Nodes())
	for h := range a.Walk(1) {
		n, _ := a.Node(h)
		spoil([]api.Node{n})
		spoil([]api.Node{{Kids: a.Kids(h)}})
	}
	if !sameNodes(a.Nodes(), r.nodes) || !sameNodes(before, r.nodes) {
		t.Errorf("%+v, %+v, want %+v", a.Nodes(), before, r.nodes)
	}
	kids := a.Kids(3)
	a.Cut(4)
	a.Put(3, 20, 5)
	if !slices.Equal(kids, []int{4, 5, 14}) || !sameNodes(before, r.nodes) {
		t.Errorf("a result changes later: %v, %+v", kids, before)
	}
}
