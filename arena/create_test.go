package arena_test

import (
	"math"
	"slices"
	"testing"

	"thicket/api"
	"thicket/arena"
)

// strange are strings that look like something else.
func strange() []string {
	return []string{"", "a", "A", "\x00", "\n", "\r", `"`, `\`, "\xFF", "\u00E9", "a b", "template", "\U0001F600"}
}

// P4.3: each node with all its fields, and no others.
func TestCreate(t *testing.T) {
	a := arena.New()
	attrs := []api.Attr{attr(api.XLink, "n", "v"), attr(0, "", "")}
	calls := []change{
		document(true), document(false), doctype(2, "n", "p", "s"), element(1, api.SVG, "n", attrs...), text(2, "d"), comment(1, "d"), fragment(2),
	}
	for i, c := range calls {
		if h, e := c.call(a); h != i+1 || e != api.OK {
			t.Errorf("%s = %d, %d", c.name, h, e)
		}
	}
	want := []api.Node{
		{Kind: api.Document, Doc: 1, Quirks: true},
		{Kind: api.Document, Doc: 2},
		{Kind: api.Doctype, Doc: 2, Name: "n", Public: "p", System: "s"},
		{Kind: api.Element, Doc: 1, Space: api.SVG, Name: "n", Attrs: attrs},
		{Kind: api.Text, Doc: 2, Data: "d"},
		{Kind: api.Comment, Doc: 1, Data: "d"},
		{Kind: api.Fragment, Doc: 2},
	}
	if a.Len() != len(want) || !sameNodes(a.Nodes(), want) {
		t.Errorf("%+v", a.Nodes())
	}
}

// P4.3, R7: the strings may be any, and are kept as they are.
func TestCreateWithAnyStrings(t *testing.T) {
	a, r := arena.New(), newByRules()
	check(t, a, r, document(false))
	for _, s := range strange() {
		for _, other := range []string{"", "x"} {
			check(t, a, r, doctype(1, s, other, s))
			check(t, a, r, doctype(1, other, s, other))
			check(t, a, r, element(1, api.Other, s, attr(0, s, other), attr(0, "b", s)))
		}
		check(t, a, r, text(1, s))
		check(t, a, r, comment(1, s))
	}
	for space := api.NoSpace; space <= api.Other; space++ {
		check(t, a, r, element(1, space, "p", attr(space, "a", "b")))
	}
}

// P4.3: the element, the inert document if there is none yet, the contents.
func TestTemplate(t *testing.T) {
	a := arena.New()
	a.Document(true)
	for i, want := range []int{2, 5, 7} {
		if h, e := a.Element(1, api.HTML, "template", nil); h != want || e != api.OK {
			t.Errorf("template %d = %d, %d", i, h, e)
		}
	}
	if h, e := a.Element(3, api.HTML, "template", nil); h != 9 || e != api.OK {
		t.Errorf("template in the inert document = %d, %d", h, e)
	}
	template := func(doc, contents int) api.Node {
		return api.Node{Kind: api.Element, Doc: doc, Space: api.HTML, Name: "template", Contents: contents}
	}
	contents := func(host int) api.Node {
		return api.Node{Kind: api.Fragment, Doc: 3, Host: host}
	}
	want := []api.Node{
		{Kind: api.Document, Doc: 1, Quirks: true}, template(1, 4), {Kind: api.Document, Doc: 3}, contents(2),
		template(1, 6), contents(5), template(1, 8), contents(7), template(3, 10), contents(9),
	}
	if !sameNodes(a.Nodes(), want) {
		t.Errorf("%+v", a.Nodes())
	}
}

// P4.3: only elements of HTML with exactly this name are templates.
func TestNoTemplates(t *testing.T) {
	a, r := arena.New(), newByRules()
	check(t, a, r, document(false))
	for space := api.NoSpace; space <= api.Other; space++ {
		for _, name := range []string{"template", "Template", "TEMPLATE", "template ", "templat", "templates", ""} {
			if space != api.HTML || name != "template" {
				check(t, a, r, element(1, space, name))
			}
		}
	}
	check(t, a, r, doctype(1, "template", "", ""))
	check(t, a, r, element(1, api.HTML, "p", attr(api.HTML, "template", "template")))
	for h := 1; h <= a.Len(); h++ {
		if n, _ := a.Node(h); n.Contents != 0 {
			t.Errorf("%+v has contents", n)
		}
	}
}

// P4.3: each document has one inert document, which is its own.
func TestInert(t *testing.T) {
	a, r := arena.New(), newByRules()
	for _, c := range []change{
		document(true), document(true), inert(2), inert(2), inert(3), inert(3), inert(1), inert(1), inert(2), inert(4), document(false), inert(5), inert(6), inert(5), inert(1),
		element(2, api.HTML, "template"), inert(2), setQuirks(1, false), inert(1), setQuirks(3, true), inert(3), inert(2),
		document(false), element(10, api.HTML, "template"), inert(10), inert(12), element(12, api.HTML, "template"), inert(12),
	} {
		check(t, a, r, c)
	}
	if i, e := a.Inert(2); i != 3 || e != api.OK {
		t.Errorf("Inert(2) = %d, %d", i, e)
	}
	if n, _ := a.Node(4); n.Quirks || n.Kind != api.Document || n.Doc != 4 || n.Parent != 0 {
		t.Errorf("an inert document: %+v", n)
	}
}

// creations create a node for doc.
func creations(doc int) []change {
	return []change{
		doctype(doc, "n", "p", "s"), element(doc, api.HTML, "p"), element(doc, api.HTML, "template"), text(doc, "d"), comment(doc, "d"), fragment(doc), inert(doc),
	}
}

// P4.3: only a document can be a node document; nothing is created with an
// error.
func TestCreateErrors(t *testing.T) {
	a, r := page(t), pageByRules()
	for _, doc := range anyHandles() {
		want := api.ErrHandle
		if r.exists(doc) {
			want = api.ErrKind
		}
		if r.exists(doc) && r.node(doc).Kind == api.Document {
			continue
		}
		for _, c := range append(creations(doc), element(doc, -1, "p"), element(doc, 0, "p", attr(9, "", ""))) {
			if h, e := c.call(a); h != 0 || e != want {
				t.Errorf("%s = %d, %d", c.name, h, e)
			}
		}
	}
	for _, space := range []api.Space{math.MinInt, -1, 8, 9, 256 + api.HTML, 1<<32 + api.HTML, math.MaxInt} {
		for _, c := range []change{
			element(1, space, "p"), element(1, space, "template"), element(17, space, "template"), element(1, api.HTML, "template", attr(space, "a", "b")),
			element(1, api.HTML, "p", attr(0, "a", ""), attr(api.Other, "a", ""), attr(space, "a", "")), element(1, 0, "p", attr(space, "a", "b"), attr(0, "a", "")),
		} {
			if h, e := c.call(a); h != 0 || e != api.ErrArg {
				t.Errorf("%s = %d, %d", c.name, h, e)
			}
		}
	}
	if !sameNodes(a.Nodes(), r.nodes) {
		t.Errorf("%+v, want %+v", a.Nodes(), r.nodes)
	}
	if i, e := a.Inert(17); i != pageNodes+1 || e != api.OK {
		t.Errorf("Inert(17) = %d, %d", i, e)
	}
}

// P4.3, R3: a nil arena.
func TestCreateInNil(t *testing.T) {
	var a *arena.Arena
	for _, quirks := range []bool{false, true} {
		if h := a.Document(quirks); h != 0 {
			t.Errorf("Document = %d", h)
		}
	}
	for _, doc := range anyHandles() {
		for _, c := range append(creations(doc), element(doc, -1, "p"), element(doc, 0, "p", attr(9, "", ""))) {
			if h, e := c.call(a); h != 0 || e != api.ErrNil {
				t.Errorf("%s = %d, %d", c.name, h, e)
			}
		}
	}
}

// attributeLists are lists of up to four attributes, some of them like others.
func attributeLists() [][]api.Attr {
	all := []api.Attr{attr(0, "a", "1"), attr(0, "a", "2"), attr(0, "A", "3"), attr(api.XML, "a", "4"), attr(api.XML, "a", ""), attr(0, "", "5")}
	lists := [][]api.Attr{nil}
	for from := 0; len(lists) < 1+6+36+216+1296; from++ {
		for _, next := range all {
			lists = append(lists, append(slices.Clone(lists[from]), next))
		}
	}
	return lists
}

// P4.3: of attributes with equal namespace and name, the first one is stored.
func TestElementAttributes(t *testing.T) {
	for _, attrs := range attributeLists() {
		a, before := arena.New(), slices.Clone(attrs)
		a.Document(false)
		h, e := a.Element(1, api.HTML, "p", attrs)
		n, _ := a.Node(h)
		if e != api.OK || !slices.Equal(n.Attrs, firstOnes(attrs)) {
			t.Errorf("Element with %v = %d, %d: %v", attrs, h, e, n.Attrs)
		}
		if !slices.Equal(attrs, before) {
			t.Errorf("%v was changed to %v", before, attrs)
		}
	}
}

// P4.3, R4: a list that is passed in is not kept.
func TestElementKeepsNoList(t *testing.T) {
	a := arena.New()
	a.Document(false)
	attrs := []api.Attr{attr(0, "a", "1"), attr(0, "b", "2")}
	a.Element(1, api.HTML, "p", attrs)
	a.Element(1, api.HTML, "p", attrs)
	attrs[0], attrs[1] = attr(-1, "x", "y"), attr(-1, "x", "y")
	for h := 2; h <= 3; h++ {
		if n, _ := a.Node(h); !slices.Equal(n.Attrs, []api.Attr{attr(0, "a", "1"), attr(0, "b", "2")}) {
			t.Errorf("%v", n.Attrs)
		}
	}
}
