package builder_test

import (
	"testing"

	"thicket/api"
	"thicket/arena"
	"thicket/builder"
	"thicket/stack"
)

// hallNodes is the number of the nodes of a hall.
const hallNodes = 28

// hall returns an arena with these nodes:
//
//	1 document
//	  2 html
//	    3 body
//	      4 text
//	      5 table
//	        6 tbody
//	          7 tr
//	      8 template (9: inert document of 1)
//	        10 contents
//	          11 text
//	          12 table
//	        13 table
//	      14 text
//	15 table
//	16 table of SVG
//	17 fragment
//	  18 table
//	19 text
//	20 comment
//	21 doctype
//	22 document, with nothing in it
//	23 tfoot, of the document 22
//	24 thead
//	25 template of MathML
//	26 p, of the document 22
//	27 template, of the document 22 (28: inert document of 22)
//	  29 contents, of the document 1
func hall(t testing.TB) *arena.Arena {
	t.Helper()
	a := arena.New()
	a.Document(false)
	a.Element(1, api.HTML, "html", nil)
	a.Element(1, api.HTML, "body", nil)
	a.Text(1, "a")
	a.Element(1, api.HTML, "table", nil)
	a.Element(1, api.HTML, "tbody", nil)
	a.Element(1, api.HTML, "tr", nil)
	a.Element(1, api.HTML, "template", nil)
	a.Text(9, "b")
	a.Element(9, api.HTML, "table", nil)
	a.Element(1, api.HTML, "table", nil)
	a.Text(1, "c")
	a.Element(1, api.HTML, "table", nil)
	a.Element(1, api.SVG, "table", nil)
	a.Fragment(1)
	a.Element(1, api.HTML, "table", nil)
	a.Text(1, "d")
	a.Comment(1, "e")
	a.Doctype(1, "html", "", "")
	a.Document(true)
	a.Element(22, api.HTML, "tfoot", nil)
	a.Element(1, api.HTML, "thead", nil)
	a.Element(1, api.MathML, "template", nil)
	a.Element(22, api.HTML, "p", nil)
	a.Element(22, api.HTML, "template", nil)
	a.SetDoc(29, 1)
	for _, x := range [][2]int{{1, 2}, {2, 3}, {3, 4}, {3, 5}, {5, 6}, {6, 7}, {3, 8}, {10, 11}, {10, 12}, {8, 13}, {3, 14}, {17, 18}} {
		if e := a.Put(x[0], x[1], 0); e != api.OK {
			t.Fatalf("Put(%d, %d, 0) = %d", x[0], x[1], e)
		}
	}
	if a.Len() != hallNodes+1 {
		t.Fatalf("the hall has %d nodes", a.Len())
	}
	return a
}

// inHall returns a builder over a hall.
func inHall(t testing.TB, open ...stack.Item) *builder.Builder {
	t.Helper()
	b := builder.New(hall(t), 1)
	b.Open.Items = open
	return b
}

// hallItems are items of all sorts; some of them say of their node what is not
// so.
func hallItems() []stack.Item {
	return []stack.Item{
		element(2, "html"), element(3, "body"), element(5, "table"), element(6, "tbody"), element(8, "template"), element(12, "table"), element(13, "table"), element(15, "table"),
		element(18, "table"), element(27, "template"), {Node: 16, Space: api.SVG, Name: "table"}, {Node: 25, Space: api.MathML, Name: "template"},
		element(0, "p"), element(0, "table"), element(-1, "template"), element(99, "table"), element(5, "p"), element(3, "table"), element(19, "table"), element(26, "template"), element(1, "body"),
	}
}

// hallTargets are all handles of a hall, and numbers that are none.
func hallTargets() []int {
	all := strangeInts()
	for h := 1; h <= hallNodes+3; h++ {
		all = append(all, h)
	}
	return all
}

// stacks calls f with every stack of at most most of the items, until the test
// has failed.
func stacks(t *testing.T, items []stack.Item, most int, f func(open []stack.Item)) {
	letters := make([]string, len(items))
	for i := range items {
		letters[i] = string(rune('A' + i))
	}
	joined(t, letters, most, func(s string) {
		var open []stack.Item
		for _, r := range s {
			open = append(open, items[r-'A'])
		}
		f(open)
	})
}

// P7.2: the place for every target, by the rules.
func TestPlaceByRules(t *testing.T) {
	b := inHall(t)
	before := b.Tree.Copy()
	stacks(t, hallItems(), 3, func(open []stack.Item) {
		b.Open.Items = open
		targets := hallTargets()
		if len(open) == 3 {
			targets = []int{0, 3, 5, 7, 8, 24}
		}
		for _, b.Foster = range []bool{false, true} {
			for _, target := range targets {
				s := (*state)(b)
				parent, before := b.Place(target)
				wantParent, wantBefore := s.place(target)
				if parent != wantParent || before != wantBefore {
					t.Errorf("%+v, foster %v: Place(%d) = %d, %d, want %d, %d", open, b.Foster, target, parent, before, wantParent, wantBefore)
				}
			}
		}
	})
	if !b.Tree.Equal(before) {
		t.Error("Place has changed the arena")
	}
}

// P7.2: the place for some targets.
func TestPlace(t *testing.T) {
	html, body, table, tbody, template := element(2, "html"), element(3, "body"), element(5, "table"), element(6, "tbody"), element(8, "template")
	lost := element(15, "table")
	for _, x := range []struct {
		name           string
		open           []stack.Item
		foster         bool
		target         int
		parent, before int
	}{
		{"nothing is open", nil, false, 0, 1, 0},
		{"nothing is open, with foster parents", nil, true, 0, 1, 0},
		{"nothing is open, for a table", nil, true, 5, 0, 0},
		{"the current node", []stack.Item{html, body}, false, 0, 3, 0},
		{"a target", []stack.Item{html, body}, false, 2, 2, 0},
		{"a target that is no node", []stack.Item{html, body}, true, 30, 30, 0},
		{"a target below 0", []stack.Item{html, body}, true, -7, -7, 0},
		{"a text", []stack.Item{html, body}, true, 4, 4, 0},
		{"a template", []stack.Item{html, body, template}, false, 0, 10, 0},
		{"a template as the target", []stack.Item{html}, true, 27, 29, 0},
		{"contents", []stack.Item{html}, true, 29, 29, 0},
		{"a template of MathML", []stack.Item{html}, true, 25, 25, 0},
		{"a table without foster parents", []stack.Item{html, body, table}, false, 0, 5, 0},
		{"a table", []stack.Item{html, body, table}, true, 0, 3, 5},
		{"a tbody", []stack.Item{html, body, table, tbody}, true, 0, 3, 5},
		{"a tr as the target", []stack.Item{html, body, table}, true, 7, 3, 5},
		{"a tfoot as the target", []stack.Item{html, body, table}, true, 23, 3, 5},
		{"a thead as the target", []stack.Item{html, body, table}, true, 24, 3, 5},
		{"a p as the target", []stack.Item{html, body, table}, true, 26, 26, 0},
		{"a table of SVG as the target", []stack.Item{html, body, table}, true, 16, 16, 0},
		{"a table as the target, body on top", []stack.Item{html, table, body}, true, 5, 3, 5},
		{"body, with foster parents", []stack.Item{html, table, body}, true, 0, 3, 0},
		{"no table open", []stack.Item{html, body, tbody}, true, 0, 2, 0},
		{"a table of SVG is none", []stack.Item{html, body, {Node: 16, Space: api.SVG, Name: "table"}, tbody}, true, 0, 2, 0},
		{"a template above the table", []stack.Item{html, table, template, tbody}, true, 0, 10, 0},
		{"a template and no table", []stack.Item{html, template, tbody}, true, 0, 10, 0},
		{"a template below the table", []stack.Item{html, template, table, tbody}, true, 0, 3, 5},
		{"a table between templates", []stack.Item{html, template, table, element(27, "template"), tbody}, true, 0, 29, 0},
		{"a table in contents", []stack.Item{html, template, element(12, "table")}, true, 0, 10, 12},
		{"a table in a template, not in its contents", []stack.Item{html, template, element(13, "table")}, true, 0, 10, 0},
		{"a table in a fragment", []stack.Item{html, element(18, "table")}, true, 0, 17, 18},
		{"the topmost table", []stack.Item{html, table, element(18, "table")}, true, 7, 17, 18},
		{"a table without a parent", []stack.Item{html, body, lost}, true, 0, 3, 0},
		{"a table without a parent above a template", []stack.Item{html, template, lost}, true, 0, 10, 0},
		{"a table without a parent as the first item", []stack.Item{lost, body}, true, 5, 15, 0},
		{"a table as the first item", []stack.Item{table}, true, 0, 3, 5},
		{"a table by its name only", []stack.Item{html, body, element(26, "table")}, true, 0, 26, 0},
		{"a table by its description only", []stack.Item{html, body, element(5, "p")}, true, 0, 2, 0},
		{"a template by its name only", []stack.Item{html, element(26, "template"), tbody}, true, 0, 26, 0},
		{"the current node is none", []stack.Item{html, element(0, "p")}, true, 0, 0, 0},
	} {
		b := inHall(t, x.open...)
		b.Foster = x.foster
		if parent, before := b.Place(x.target); parent != x.parent || before != x.before {
			t.Errorf("%s: Place(%d) = %d, %d, want %d, %d", x.name, x.target, parent, before, x.parent, x.before)
		}
	}
}

// P7.2: what is put into a document: one element, comments, and no characters.
func TestPutIntoDocuments(t *testing.T) {
	b := onDocument(t)
	b.Comment("a", 0)
	b.Char('x') // nothing: a document has no text
	b.Insert(tag("html"))
	b.Open.Items = nil
	b.Insert(tag("svg"))
	b.Open.Items = nil
	b.Comment("b", 0)
	b.Char('y')
	dumpIs(t, b, 1, "document", `  comment "a"`, `  element 1 "html"`, `  comment "b"`)
	is(t, "the number of nodes", b.Tree.Len(), 5)
	is(t, "the parent of the second element", b.Tree.Parent(4), 0)

	b = onDocument(t)
	b.Tree.Text(1, "x")
	b.Tree.Put(1, 2, 0)
	b.Tree.Doctype(1, "html", "", "")
	b.Tree.Put(1, 3, 0)
	b.Insert(tag("p"))
	dumpIs(t, b, 1, "document", `  text "x"`, `  doctype "html" "" ""`, `  element 1 "p"`)
}
