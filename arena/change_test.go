package arena_test

import (
	"math"
	"math/rand/v2"
	"slices"
	"testing"

	"thicket/api"
	"thicket/arena"
)

// P4.4: every node into every parent before every child.
func TestPutEverywhere(t *testing.T) {
	for _, parent := range anyHandles() {
		for _, node := range anyHandles() {
			for _, before := range anyHandles() {
				checkOnPage(t, put(parent, node, before))
			}
		}
	}
}

// P4.4: the errors of Put in their order.
func TestPutErrors(t *testing.T) {
	a, r := page(t), pageByRules()
	for _, x := range []struct {
		parent, node, before int
		want                 api.Errno
	}{
		{0, 20, 0, api.ErrHandle}, {3, 0, 0, api.ErrHandle}, {3, 20, -1, api.ErrHandle}, {3, 20, pageNodes + 1, api.ErrHandle},
		{10, 1, pageNodes + 1, api.ErrHandle}, {math.MinInt, 20, 0, api.ErrHandle}, {3, math.MaxInt, 0, api.ErrHandle}, {3, 20, math.MinInt, api.ErrHandle},
		{2, 20, 0, api.ErrHierarchy}, {4, 20, 0, api.ErrHierarchy}, {10, 20, 0, api.ErrHierarchy}, {10, 20, 9, api.ErrHierarchy},
		{3, 1, 0, api.ErrHierarchy}, {3, 17, 0, api.ErrHierarchy}, {3, 15, 0, api.ErrHierarchy}, {3, 7, 0, api.ErrHierarchy}, {5, 7, 9, api.ErrHierarchy},
		{14, 14, 0, api.ErrHierarchy}, {14, 3, 0, api.ErrHierarchy}, {14, 3, 20, api.ErrHierarchy}, {12, 5, 0, api.ErrHierarchy}, {9, 3, 0, api.ErrHierarchy},
		{7, 5, 0, api.ErrHierarchy}, {12, 11, 13, api.ErrHierarchy},
		{3, 20, 20, api.ErrNotFound}, {3, 4, 4, api.ErrNotFound}, {3, 20, 8, api.ErrNotFound}, {3, 20, 1, api.ErrNotFound}, {3, 20, 3, api.ErrNotFound},
		{5, 20, 9, api.ErrNotFound}, {5, 20, 7, api.ErrNotFound},
	} {
		if got := a.Put(x.parent, x.node, x.before); got != x.want {
			t.Errorf("Put(%d, %d, %d) = %d, want %d", x.parent, x.node, x.before, got, x.want)
		}
	}
	if !sameNodes(a.Nodes(), r.nodes) {
		t.Errorf("%+v, want %+v", a.Nodes(), r.nodes)
	}
}

// P4.4: where a node stands among the children.
func TestPutAmongChildren(t *testing.T) {
	for _, x := range []struct {
		node, before int
		want         []int
	}{
		{4, 0, []int{5, 14, 4}}, {4, 14, []int{5, 4, 14}}, {4, 5, []int{4, 5, 14}}, {14, 4, []int{14, 4, 5}}, {14, 5, []int{4, 14, 5}}, {14, 0, []int{4, 5, 14}},
		{5, 4, []int{5, 4, 14}}, {20, 0, []int{4, 5, 14, 20}}, {20, 4, []int{20, 4, 5, 14}}, {20, 14, []int{4, 5, 20, 14}}, {2, 0, []int{4, 5, 14, 2}},
		{13, 5, []int{4, 13, 5, 14}}, {9, 0, []int{4, 5, 14, 9}},
	} {
		a := page(t)
		old := a.Parent(x.node)
		doc, _ := a.Node(x.node)
		if e := a.Put(3, x.node, x.before); e != api.OK || !slices.Equal(a.Kids(3), x.want) {
			t.Errorf("Put(3, %d, %d) = %d: %v, want %v", x.node, x.before, e, a.Kids(3), x.want)
		}
		if old != 3 && slices.Contains(a.Kids(old), x.node) {
			t.Errorf("%d has two parents", x.node)
		}
		if n, _ := a.Node(x.node); n.Doc != doc.Doc || n.Parent != 3 {
			t.Errorf("Put(3, %d, %d) leaves %+v", x.node, x.before, n)
		}
	}
}

// P4.4: Cut of every node, also twice.
func TestCut(t *testing.T) {
	for _, h := range anyHandles() {
		a, r := page(t), pageByRules()
		if check(t, a, r, cut(h)) {
			check(t, a, r, cut(h))
		}
	}
	a := page(t)
	if e := a.Cut(5); e != api.OK || !slices.Equal(a.Kids(3), []int{4, 14}) || a.Parent(5) != 0 || a.Root(8) != 5 || !a.Contains(5, 10) {
		t.Errorf("Cut(5) = %d: %v", e, a.Kids(3))
	}
	if a.Cut(1) != api.OK || a.Cut(7) != api.OK || a.Cut(0) != api.ErrHandle || a.Cut(pageNodes+1) != api.ErrHandle {
		t.Error("Cut of nodes without a parent, or of none")
	}
}

// P4.4: the setters, on all nodes and on none.
func TestSetters(t *testing.T) {
	for _, h := range anyHandles() {
		for _, s := range strange() {
			checkOnPage(t, setData(h, s))
			checkOnPage(t, setAttrs(h, attr(0, s, s), attr(api.Other, s, ""), attr(0, s, "x")))
		}
		checkOnPage(t, setAttrs(h))
		for _, space := range []api.Space{math.MinInt, -1, 8, 256, math.MaxInt} {
			checkOnPage(t, setAttrs(h, attr(space, "a", "b")))
			checkOnPage(t, setAttrs(h, attr(0, "a", "b"), attr(api.XML, "a", "b"), attr(space, "a", "b")))
		}
		checkOnPage(t, setQuirks(h, false))
		checkOnPage(t, setQuirks(h, true))
		for _, doc := range anyHandles() {
			checkOnPage(t, setDoc(h, doc))
		}
	}
}

// P4.4: what setters return and set, said once more without the rules.
func TestSettersPlainly(t *testing.T) {
	a := page(t)
	for _, x := range []struct {
		c    change
		want api.Errno
	}{
		{setData(13, "new"), api.OK}, {setData(4, ""), api.OK}, {setData(3, "x"), api.ErrKind}, {setData(2, "x"), api.ErrKind}, {setData(1, "x"), api.ErrKind}, {setData(7, "x"), api.ErrKind},
		{setData(0, "x"), api.ErrHandle},
		{setAttrs(14), api.OK}, {setAttrs(18, attr(0, "b", "1"), attr(0, "b", "2")), api.OK},
		{setAttrs(13), api.ErrKind}, {setAttrs(13, attr(9, "", "")), api.ErrKind}, {setAttrs(0, attr(9, "", "")), api.ErrHandle}, {setAttrs(14, attr(-1, "", "")), api.ErrArg},
		{setQuirks(17, true), api.OK}, {setQuirks(1, false), api.OK}, {setQuirks(3, true), api.ErrKind}, {setQuirks(15, true), api.ErrKind}, {setQuirks(99, true), api.ErrHandle},
		{setDoc(5, 17), api.OK}, {setDoc(7, 17), api.OK}, {setDoc(16, 6), api.OK},
		{setDoc(1, 17), api.ErrKind}, {setDoc(17, 17), api.ErrKind}, {setDoc(3, 2), api.ErrKind}, {setDoc(3, 15), api.ErrKind}, {setDoc(1, 0), api.ErrHandle}, {setDoc(0, 3), api.ErrHandle},
	} {
		if _, e := x.c.call(a); e != x.want {
			t.Errorf("%s = %d, want %d", x.c.name, e, x.want)
		}
	}
	node := func(h int) api.Node {
		n, _ := a.Node(h)
		return n
	}
	if node(13).Data != "new" || node(4).Data != "" || len(node(14).Attrs) != 0 || !slices.Equal(node(18).Attrs, []api.Attr{attr(0, "b", "1")}) || !node(17).Quirks || node(1).Quirks {
		t.Errorf("%+v", a.Nodes())
	}
	for h, want := range map[int]int{3: 1, 5: 17, 7: 17, 8: 1, 9: 6, 16: 6, 17: 17, 1: 1} {
		if node(h).Doc != want {
			t.Errorf("the node document of %d is %d", h, node(h).Doc)
		}
	}
}

// P4.4, R4: SetAttrs does not change or keep its list.
func TestSetAttrsKeepsNoList(t *testing.T) {
	for _, attrs := range attributeLists() {
		a, before := page(t), slices.Clone(attrs)
		if e := a.SetAttrs(14, attrs); e != api.OK || !slices.Equal(attrs, before) {
			t.Errorf("SetAttrs(%v) = %d, %v", before, e, attrs)
		}
		clear(attrs)
		if n, _ := a.Node(14); !slices.Equal(n.Attrs, firstOnes(before)) {
			t.Errorf("SetAttrs(%v): %v", before, n.Attrs)
		}
	}
}

// P4.4, R3: a nil arena.
func TestChangesOfNil(t *testing.T) {
	var a *arena.Arena
	for _, h := range anyHandles() {
		for _, c := range []change{put(h, h, h), put(h, 0, 0), cut(h), setData(h, "x"), setAttrs(h), setAttrs(h, attr(-1, "", "")), setQuirks(h, true), setDoc(h, h), setDoc(1, h)} {
			if _, e := c.call(a); e != api.ErrNil {
				t.Errorf("%s = %d", c.name, e)
			}
		}
	}
}

// changes makes changes of an arena that follows the rules. Most of them are
// possible.
type changes struct {
	*rand.Rand
	rules *byRules
	attrs [][]api.Attr
}

func (c changes) handle() int {
	return c.IntN(len(c.rules.nodes)+3) - 1
}

// doc is mostly a document.
func (c changes) doc() int {
	for range 40 {
		if h := c.handle(); c.rules.docError(h) == api.OK {
			return h
		}
	}
	return c.handle()
}

func (c changes) name() string {
	return []string{"template", "template", "p", "Template", ""}[c.IntN(5)]
}

func (c changes) space() api.Space {
	return []api.Space{1, 1, 1, 1, 1, 0, 2, 7, 8, -1}[c.IntN(10)]
}

func (c changes) someAttrs() []api.Attr {
	return c.attrs[c.IntN(len(c.attrs))]
}

// place is a parent and one of its children, if it has any.
func (c changes) place() (parent, before int) {
	parent = c.handle()
	if c.rules.exists(parent) && len(c.rules.node(parent).Kids) > 0 {
		kids := c.rules.node(parent).Kids
		return parent, kids[c.IntN(len(kids))]
	}
	return parent, 0
}

func (c changes) next() change {
	switch c.IntN(20) {
	case 0:
		return document(c.IntN(2) == 0)
	case 1:
		return doctype(c.doc(), c.name(), "p", "")
	case 2, 3, 4:
		return element(c.doc(), c.space(), c.name(), c.someAttrs()...)
	case 5:
		return text(c.doc(), c.name())
	case 6:
		return comment(c.doc(), c.name())
	case 7:
		return fragment(c.doc())
	case 8:
		return inert(c.handle())
	case 9:
		return cut(c.handle())
	case 10:
		return setData(c.handle(), c.name())
	case 11:
		return setAttrs(c.handle(), c.someAttrs()...)
	case 12:
		return setQuirks(c.handle(), c.IntN(2) == 0)
	case 13:
		return setDoc(c.handle(), c.doc())
	case 14:
		return put(c.handle(), c.handle(), c.handle())
	case 15, 16:
		return put(c.handle(), c.handle(), 0)
	}
	parent, before := c.place()
	return put(parent, c.handle(), before)
}

// P4.1 to P4.6: long sequences of changes. The nodes are sound after each one.
func TestManyChanges(t *testing.T) {
	attrs := attributeLists()
	for seed := range uint64(150) {
		a, r := arena.New(), newByRules()
		check(t, a, r, document(false))
		some := changes{rand.New(rand.NewPCG(seed, 4)), r, attrs}
		for range 80 {
			if !check(t, a, r, some.next()) {
				return
			}
			if !arena.Sound(a.Nodes()) {
				t.Fatalf("not sound: %+v", a.Nodes())
			}
		}
		checkQueries(t, a, r)
		for h := range len(r.nodes) {
			check(t, a, r, inert(h+1))
		}
	}
}

// P0.1: a tree of as many levels as the limits allow.
func TestDeepTree(t *testing.T) {
	const levels = 1 << 16
	a := arena.New()
	a.Document(false)
	a.Element(1, api.HTML, "p", nil)
	for h := 3; h <= levels; h++ {
		a.Element(1, api.HTML, "p", nil)
		if e := a.Put(h-1, h, 0); e != api.OK {
			t.Fatalf("Put of level %d = %d", h, e)
		}
	}
	b := a.Copy()
	if a.Root(levels) != 2 || !a.Contains(2, levels) || a.Contains(3, 2) || a.Put(levels, 2, 0) != api.ErrHierarchy || !a.Equal(b) || !a.Same(2, b, 2) || a.Same(2, b, 3) {
		t.Error("a deep tree")
	}
	if got := collect(a.Walk(2)); len(got) != levels-1 || got[levels-2] != levels {
		t.Errorf("a walk of %d steps", len(got))
	}
	if !arena.Sound(a.Nodes()) {
		t.Error("a deep tree is not sound")
	}
}

// P0.1: templates in templates.
func TestDeepTemplates(t *testing.T) {
	const levels = 1 << 14
	a := arena.New()
	a.Document(false)
	a.Inert(1)
	contents := 0
	for range levels {
		h, _ := a.Element(2, api.HTML, "template", nil)
		if contents != 0 && a.Put(contents, h, 0) != api.OK {
			t.Fatalf("Put(%d, %d, 0)", contents, h)
		}
		contents = h + 1
	}
	if !a.Contains(3, contents) || a.Root(contents) != contents || a.Put(contents, 3, 0) != api.ErrHierarchy || len(collect(a.Walk(3))) != 2*levels || !a.Same(3, a, 3) {
		t.Error("deep templates")
	}
	if !arena.Sound(a.Nodes()) {
		t.Error("deep templates are not sound")
	}
}
