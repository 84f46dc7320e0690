package arena_test

import (
	"fmt"
	"iter"
	"math"
	"reflect"
	"slices"
	"testing"

	"thicket/api"
	"thicket/arena"
)

// change is a call that may change an arena.
type change struct {
	name string
	call func(c changer) (int, api.Errno)
}

func document(quirks bool) change {
	return change{fmt.Sprintf("Document(%v)", quirks), func(c changer) (int, api.Errno) { return c.Document(quirks), api.OK }}
}

func doctype(doc int, name, public, system string) change {
	return change{fmt.Sprintf("Doctype(%d, %q, %q, %q)", doc, name, public, system), func(c changer) (int, api.Errno) { return c.Doctype(doc, name, public, system) }}
}

func element(doc int, space api.Space, name string, attrs ...api.Attr) change {
	return change{fmt.Sprintf("Element(%d, %d, %q, %v)", doc, space, name, attrs), func(c changer) (int, api.Errno) { return c.Element(doc, space, name, attrs) }}
}

func text(doc int, data string) change {
	return change{fmt.Sprintf("Text(%d, %q)", doc, data), func(c changer) (int, api.Errno) { return c.Text(doc, data) }}
}

func comment(doc int, data string) change {
	return change{fmt.Sprintf("Comment(%d, %q)", doc, data), func(c changer) (int, api.Errno) { return c.Comment(doc, data) }}
}

func fragment(doc int) change {
	return change{fmt.Sprintf("Fragment(%d)", doc), func(c changer) (int, api.Errno) { return c.Fragment(doc) }}
}

func inert(doc int) change {
	return change{fmt.Sprintf("Inert(%d)", doc), func(c changer) (int, api.Errno) { return c.Inert(doc) }}
}

func put(parent, node, before int) change {
	return change{fmt.Sprintf("Put(%d, %d, %d)", parent, node, before), func(c changer) (int, api.Errno) { return 0, c.Put(parent, node, before) }}
}

func cut(node int) change {
	return change{fmt.Sprintf("Cut(%d)", node), func(c changer) (int, api.Errno) { return 0, c.Cut(node) }}
}

func setData(h int, data string) change {
	return change{fmt.Sprintf("SetData(%d, %q)", h, data), func(c changer) (int, api.Errno) { return 0, c.SetData(h, data) }}
}

func setAttrs(h int, attrs ...api.Attr) change {
	return change{fmt.Sprintf("SetAttrs(%d, %v)", h, attrs), func(c changer) (int, api.Errno) { return 0, c.SetAttrs(h, attrs) }}
}

func setQuirks(h int, quirks bool) change {
	return change{fmt.Sprintf("SetQuirks(%d, %v)", h, quirks), func(c changer) (int, api.Errno) { return 0, c.SetQuirks(h, quirks) }}
}

func setDoc(h, doc int) change {
	return change{fmt.Sprintf("SetDoc(%d, %d)", h, doc), func(c changer) (int, api.Errno) { return 0, c.SetDoc(h, doc) }}
}

func attr(space api.Space, name, value string) api.Attr {
	return api.Attr{Space: space, Name: name, Value: value}
}

// pageNodes is the number of the nodes of a page.
const pageNodes = 21

// pageChanges make this page, with nodes of all kinds:
//
//	1 document, quirks
//	  2 doctype
//	  3 html
//	    4 comment
//	    5 template (6: inert document of 1)
//	      7 contents
//	        9 p
//	          10 text
//	        11 template
//	          12 contents
//	            13 text
//	      8 text
//	    14 p with attributes
//	15 fragment
//	  16 text
//	17 document
//	  18 template of SVG
//	  19 comment
//	20 text
//	21 template in capital letters
func pageChanges() []change {
	return []change{
		document(true),
		doctype(1, "html", "p", "s"), element(1, api.HTML, "html"), comment(1, "c"), element(1, api.HTML, "template"),
		text(1, "t"), element(6, api.HTML, "p"), text(6, "u"), element(6, api.HTML, "template", attr(0, "a", "b")), text(6, ""),
		element(1, api.HTML, "p", attr(0, "id", "x"), attr(api.XML, "lang", "y")), fragment(1), text(1, "v"), document(false),
		element(17, api.SVG, "template"), comment(17, ""), text(17, "t"), element(1, api.HTML, "TEMPLATE"),
		put(1, 2, 0), put(1, 3, 0), put(3, 14, 0), put(3, 4, 14), put(3, 5, 14), put(5, 8, 0), put(7, 11, 0), put(7, 9, 11),
		put(9, 10, 0), put(12, 13, 0), put(15, 16, 0), put(17, 19, 0), put(17, 18, 19),
	}
}

func pageByRules() *byRules {
	r := newByRules()
	for _, c := range pageChanges() {
		c.call(r)
	}
	return r
}

func page(t *testing.T) *arena.Arena {
	t.Helper()
	a := arena.New()
	for _, c := range pageChanges() {
		if _, e := c.call(a); e != api.OK {
			t.Fatalf("%s returns %d", c.name, e)
		}
	}
	if a.Len() != pageNodes {
		t.Fatalf("the page has %d nodes", a.Len())
	}
	return a
}

// noHandles are no handles of a page.
func noHandles() []int {
	return []int{math.MinInt, -pageNodes, -2, -1, 0, pageNodes + 1, pageNodes + 2, 1 << 32, 1<<32 + 1, math.MaxInt}
}

// anyHandles are the handles of a page, and the least and greatest that are
// none.
func anyHandles() []int {
	var all []int
	for h := -1; h <= pageNodes+1; h++ {
		all = append(all, h)
	}
	return append(all, math.MinInt, math.MaxInt)
}

// check makes a change of an arena and a change by the rules, and compares.
func check(t *testing.T, a *arena.Arena, r *byRules, c change) bool {
	t.Helper()
	got, gotError := c.call(a)
	want, wantError := c.call(r)
	if got != want || gotError != wantError {
		t.Errorf("%s = %d, %d, want %d, %d", c.name, got, gotError, want, wantError)
		return false
	}
	if !sameNodes(a.Nodes(), r.nodes) {
		t.Errorf("%s makes %+v, want %+v", c.name, a.Nodes(), r.nodes)
		return false
	}
	return true
}

// checkOnPage checks a change of a page.
func checkOnPage(t *testing.T, c change) {
	t.Helper()
	check(t, page(t), pageByRules(), c)
}

// sameNodes compares descriptions without the help of the package.
func sameNodes(a, b []api.Node) bool {
	return slices.EqualFunc(a, b, sameNode)
}

func sameNode(n, m api.Node) bool {
	for _, x := range []*api.Node{&n, &m} {
		if len(x.Kids) == 0 {
			x.Kids = nil
		}
		if len(x.Attrs) == 0 {
			x.Attrs = nil
		}
	}
	return reflect.DeepEqual(n, m)
}

// spoilers set one field of a node to something that is not zero.
func spoilers() map[string]func(*api.Node) {
	return map[string]func(*api.Node){
		"Kind":     func(n *api.Node) { n.Kind = api.Text },
		"Parent":   func(n *api.Node) { n.Parent = 1 },
		"Kids":     func(n *api.Node) { n.Kids = []int{1} },
		"Doc":      func(n *api.Node) { n.Doc = 1 },
		"Space":    func(n *api.Node) { n.Space = api.Other },
		"Name":     func(n *api.Node) { n.Name = "n" },
		"Attrs":    func(n *api.Node) { n.Attrs = []api.Attr{{Name: "a"}} },
		"Data":     func(n *api.Node) { n.Data = "d" },
		"Public":   func(n *api.Node) { n.Public = "p" },
		"System":   func(n *api.Node) { n.System = "s" },
		"Quirks":   func(n *api.Node) { n.Quirks = true },
		"Contents": func(n *api.Node) { n.Contents = 1 },
		"Host":     func(n *api.Node) { n.Host = 1 },
	}
}

func TestSpoilersSpoilAllFields(t *testing.T) {
	fields := reflect.TypeFor[api.Node]()
	for i := range fields.NumField() {
		name := fields.Field(i).Name
		spoil, found := spoilers()[name]
		if !found {
			t.Errorf("nothing spoils %s", name)
			continue
		}
		var n api.Node
		spoil(&n)
		if reflect.ValueOf(n).FieldByName(name).IsZero() || sameNode(n, api.Node{}) {
			t.Errorf("%s was not spoilt", name)
		}
	}
}

func collect(seq iter.Seq[int]) []int {
	var all []int
	for h := range seq {
		all = append(all, h)
	}
	return all
}
