package dom_test

import (
	"math"
	"reflect"
	"slices"
	"testing"

	"thicket/api"
	"thicket/arena"
)

// pageNodes is the number of the nodes of a page.
const pageNodes = 36

// page returns an arena with these nodes:
//
//	1 document, quirks
//	  2 doctype
//	  3 html
//	    4 comment
//	    5 template (6: inert document of 1)
//	      7 contents
//	        9 p
//	          10 text
//	        11 template
//	          12 contents
//	            13 text
//	      8 text
//	    14 p with attributes
//	      15 text
//	      16 text, empty
//	      17 b with attributes
//	        18 text
//	      19 text, empty
//	      20 text
//	21 fragment
//	  22 svg with attributes
//	    23 text
//	24 fragment
//	  25 p
//	  26 comment
//	  27 P, in capital letters
//	28 fragment
//	29 document, without an inert document
//	  30 comment
//	  31 template of SVG
//	32 document, with nothing in it
//	33 doctype
//	34 text
//	35 template (6: its contents' document)
//	  36 contents
func page(t testing.TB) *arena.Arena {
	t.Helper()
	a := arena.New()
	a.Document(true)
	a.Doctype(1, "html", "p", "s")
	a.Element(1, api.HTML, "html", nil)
	a.Comment(1, "c")
	a.Element(1, api.HTML, "template", []api.Attr{attr(0, "id", "t")})
	a.Text(1, "t")
	a.Element(6, api.HTML, "p", []api.Attr{attr(0, "id", "x")})
	a.Text(6, "u")
	a.Element(6, api.HTML, "template", nil)
	a.Text(6, "v")
	a.Element(1, api.HTML, "p", []api.Attr{attr(api.XML, "id", "x"), attr(0, "id", "x"), attr(0, "LANG", "y")})
	a.Text(1, "a")
	a.Text(1, "")
	a.Element(1, api.HTML, "b", []api.Attr{attr(0, "ID", "z"), attr(0, "lang", "")})
	a.Text(1, "d")
	a.Text(1, "")
	a.Text(1, "e\"\n\xFF")
	a.Fragment(1)
	a.Element(1, api.SVG, "Svg", []api.Attr{attr(0, "id", "w"), attr(0, "Lang", "e")})
	a.Text(1, "f")
	a.Fragment(1)
	a.Element(1, api.HTML, "p", nil)
	a.Comment(1, "g")
	a.Element(1, api.HTML, "P", nil)
	a.Fragment(1)
	a.Document(false)
	a.Comment(29, "")
	a.Element(29, api.SVG, "template", nil)
	a.Document(false)
	a.Doctype(29, "", "", "")
	a.Text(29, "h")
	a.Element(1, api.HTML, "template", nil)
	for _, x := range [][2]int{
		{1, 2}, {1, 3}, {3, 4}, {3, 5}, {5, 8}, {7, 9}, {9, 10}, {7, 11}, {12, 13}, {3, 14}, {14, 15}, {14, 16}, {14, 17}, {17, 18}, {14, 19}, {14, 20},
		{21, 22}, {22, 23}, {24, 25}, {24, 26}, {24, 27}, {29, 30}, {29, 31},
	} {
		put(t, a, x[0], x[1])
	}
	if a.Len() != pageNodes {
		t.Fatalf("the page has %d nodes", a.Len())
	}
	return a
}

func attr(space api.Space, name, value string) api.Attr {
	return api.Attr{Space: space, Name: name, Value: value}
}

// put puts a node at the end of a parent, without the help of the package.
func put(t testing.TB, a *arena.Arena, parent, node int) {
	t.Helper()
	if e := a.Put(parent, node, 0); e != api.OK {
		t.Fatalf("Put(%d, %d, 0) = %d", parent, node, e)
	}
}

// nodeOf returns a description.
func nodeOf(a *arena.Arena, h int) api.Node {
	n, _ := a.Node(h)
	return n
}

// anyHandles are the handles of a page, and some numbers that are none.
func anyHandles() []int {
	var all []int
	for h := -1; h <= pageNodes+1; h++ {
		all = append(all, h)
	}
	return append(all, math.MinInt, math.MaxInt)
}

// noHandles are no handles of a page.
func noHandles() []int {
	return []int{math.MinInt, -pageNodes, -1, 0, pageNodes + 1, 1 << 32, 1<<32 + 1, math.MaxInt}
}

// strange are strings of all sorts.
func strange() []string {
	return []string{"", "a", "A", "id", "ID", "lang", "LANG", "Lang", "*", "p", "P", "b", "template", "Svg", "svg", "html", "a b", "a\x00", "1", "a=", "\u00E9", "\xFF", ":\"", "x"}
}

// result is what a call returns; what it does not return is zero.
type result struct {
	Handle int
	Text   string
	Is     bool
	List   []int
	Error  api.Errno
}

// call is a call of the package, and one of its rules word for word.
type call struct {
	name           string
	program, rules func(a *arena.Arena) result
}

// check makes a call of the package on one arena and of the rules on another
// one, and compares the results and the arenas. The rules change nothing if they
// return an error.
func check(t *testing.T, a, b *arena.Arena, c call) bool {
	t.Helper()
	got, want := c.program(a), c.rules(b)
	if !reflect.DeepEqual(got, want) {
		t.Errorf("%s = %+v, want %+v", c.name, got, want)
		return false
	}
	if !a.Equal(b) {
		t.Errorf("%s makes %+v, want %+v", c.name, a.Nodes(), b.Nodes())
		return false
	}
	if got.Error != api.OK && !reflect.DeepEqual(got, result{Error: got.Error}) {
		t.Errorf("%s returns an error and more: %+v", c.name, got)
		return false
	}
	return true
}

// checkOn checks calls, each on an arena that is equal to this one.
func checkOn(t *testing.T, a *arena.Arena, calls ...call) {
	t.Helper()
	b, r := a.Copy(), a.Copy()
	for _, c := range calls {
		check(t, b, r, c)
		if !b.Equal(a) || !r.Equal(a) {
			b, r = a.Copy(), a.Copy()
		}
	}
}

// checkNil checks that calls with a nil arena return ErrNil.
func checkNil(t *testing.T, calls ...call) {
	t.Helper()
	for _, c := range calls {
		if got := c.program(nil); !reflect.DeepEqual(got, result{Error: api.ErrNil}) {
			t.Errorf("%s of nil = %+v", c.name, got)
		}
	}
}

// kidsAre reports which children a node has, if not those.
func kidsAre(t *testing.T, a *arena.Arena, h int, want ...int) {
	t.Helper()
	if got := a.Kids(h); !slices.Equal(got, want) {
		t.Errorf("the children of %d are %v, want %v", h, got, want)
	}
}

// docsAre reports which node documents nodes have, if not those.
func docsAre(t *testing.T, a *arena.Arena, want map[int]int) {
	t.Helper()
	for h, doc := range want {
		if got := nodeOf(a, h).Doc; got != doc {
			t.Errorf("the node document of %d is %d, want %d", h, got, doc)
		}
	}
}
