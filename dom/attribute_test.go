package dom_test

import (
	"math"
	"slices"
	"testing"

	"thicket/api"
	"thicket/dom"
)

// someSpaces are the namespaces, and some values that are none.
func someSpaces() []api.Space {
	return []api.Space{math.MinInt, -1, api.NoSpace, api.HTML, api.SVG, api.MathML, api.XLink, api.XML, api.XMLNS, api.Other, api.Other + 1, 256, 1 << 32, math.MaxInt}
}

// P5.3: every call with every handle, namespace and name.
func TestAttributesEverywhere(t *testing.T) {
	a := page(t)
	for _, h := range anyHandles() {
		for _, name := range strange() {
			calls := []call{createElement(h, name)}
			for _, space := range someSpaces() {
				calls = append(calls, attribute(h, space, name), setAttribute(h, space, name, "new"), removeAttribute(h, space, name))
			}
			checkOn(t, a, calls...)
		}
	}
}

// P5.3: which names elements can be created with.
func TestCreateElement(t *testing.T) {
	for name, want := range map[string]string{
		"p": "p", "P": "p", "aBcZ": "abcz", "TEMPLATE": "template", "\u00C9A": "\u00C9a", "a\"<b": "a\"<b", ":X": ":x", "_-.9": "_-.9", "h1": "h1", "\xFFQ": "\xFFq", "K\u212A": "k\u212A",
	} {
		a := page(t)
		h, e := dom.CreateElement(a, 29, name)
		n := nodeOf(a, h)
		if e != api.OK || h != pageNodes+1 || n.Kind != api.Element || n.Name != want || n.Space != api.HTML || n.Doc != 29 || len(n.Attrs) != 0 || n.Parent != 0 {
			t.Errorf("CreateElement(29, %q) = %d, %d: %+v", name, h, e, n)
		}
		if (want == "template") != (n.Contents == pageNodes+3 && a.Len() == pageNodes+3) {
			t.Errorf("the contents of %q: %d of %d nodes", name, n.Contents, a.Len())
		}
	}
	a := page(t)
	for _, name := range []string{"", " ", "1", "-a", "a b", "a\tb", "a/", "a>", "a\x00", ":\"x", "_ ", "\u00E9>", "<", "*"} {
		if h, e := dom.CreateElement(a, 1, name); h != 0 || e != api.ErrChar {
			t.Errorf("CreateElement(1, %q) = %d, %d", name, h, e)
		}
	}
	for h, want := range map[int]api.Errno{0: api.ErrHandle, -1: api.ErrHandle, pageNodes + 1: api.ErrHandle, 3: api.ErrKind, 2: api.ErrKind, 24: api.ErrKind, 7: api.ErrKind, 34: api.ErrKind, 4: api.ErrKind} {
		for _, name := range []string{"p", "", "a b"} {
			if k, e := dom.CreateElement(a, h, name); k != 0 || e != want {
				t.Errorf("CreateElement(%d, %q) = %d, %d", h, name, k, e)
			}
		}
	}
	if !a.Equal(page(t)) {
		t.Error("errors create nodes")
	}
}

// P5.3: which attribute is found.
func TestAttribute(t *testing.T) {
	a := page(t)
	for _, x := range []struct {
		el    int
		space api.Space
		name  string
		want  result
	}{
		{14, 0, "id", result{Text: "x", Is: true}}, {14, 0, "ID", result{Text: "x", Is: true}}, {14, api.XML, "id", result{Text: "x", Is: true}}, {14, api.XML, "ID", result{}},
		{14, 0, "lang", result{}}, {14, 0, "LANG", result{}}, {14, api.HTML, "LANG", result{}}, {14, 0, "", result{}}, {14, 0, "a b", result{}},
		{17, 0, "ID", result{}}, {17, 0, "id", result{}}, {17, 0, "lang", result{Is: true}}, {17, 0, "LANG", result{Is: true}},
		{22, 0, "id", result{Text: "w", Is: true}}, {22, 0, "ID", result{}}, {22, 0, "Lang", result{Text: "e", Is: true}}, {22, 0, "lang", result{}}, {22, api.Other, "id", result{}},
		{3, 0, "id", result{}}, {7, 0, "id", result{Error: api.ErrKind}}, {34, 9, "", result{Error: api.ErrKind}}, {1, 0, "id", result{Error: api.ErrKind}}, {2, 0, "id", result{Error: api.ErrKind}}, {4, 0, "id", result{Error: api.ErrKind}},
		{0, 9, "", result{Error: api.ErrHandle}}, {14, 8, "id", result{Error: api.ErrArg}}, {14, -1, "a b", result{Error: api.ErrArg}},
	} {
		value, is, e := dom.Attribute(a, x.el, x.space, x.name)
		if value != x.want.Text || is != x.want.Is || e != x.want.Error {
			t.Errorf("Attribute(%d, %d, %q) = %q, %v, %d", x.el, x.space, x.name, value, is, e)
		}
	}
	if !a.Equal(page(t)) {
		t.Error("Attribute changes nodes")
	}
}

// P5.3: attributes keep their positions, and new ones come last.
func TestSetAttribute(t *testing.T) {
	a := page(t)
	for _, x := range []struct {
		space api.Space
		name  string
		value string
	}{
		{0, "ID", "1"}, {0, "Class", "2"}, {api.XML, "ID", "3"}, {0, "class", ""}, {api.Other, "id", "4\x00"}, {0, "LANG", "5"}, {api.XML, "id", "6"}, {0, "a\"b", "7"}, {api.HTML, "ID", "8"},
	} {
		if e := dom.SetAttribute(a, 14, x.space, x.name, x.value); e != api.OK {
			t.Errorf("SetAttribute(14, %d, %q, %q) = %d", x.space, x.name, x.value, e)
		}
	}
	want := []api.Attr{
		attr(api.XML, "id", "6"), attr(0, "id", "1"), attr(0, "LANG", "y"), attr(0, "class", ""), attr(api.XML, "ID", "3"), attr(api.Other, "id", "4\x00"), attr(0, "lang", "5"), attr(0, "a\"b", "7"), attr(api.HTML, "ID", "8"),
	}
	if got := nodeOf(a, 14).Attrs; !slices.Equal(got, want) {
		t.Errorf("%v, want %v", got, want)
	}
	dom.SetAttribute(a, 22, 0, "ID", "9")
	if got, want := nodeOf(a, 22).Attrs, []api.Attr{attr(0, "id", "w"), attr(0, "Lang", "e"), attr(0, "ID", "9")}; !slices.Equal(got, want) {
		t.Errorf("%v, want %v", got, want)
	}
	dom.SetAttribute(a, 3, 0, "A", "")
	if got, want := nodeOf(a, 3).Attrs, []api.Attr{attr(0, "a", "")}; !slices.Equal(got, want) {
		t.Errorf("%v, want %v", got, want)
	}
}

// P5.3: the errors of SetAttribute in their order.
func TestSetAttributeErrors(t *testing.T) {
	a := page(t)
	for _, x := range []struct {
		el    int
		space api.Space
		name  string
		want  api.Errno
	}{
		{0, 9, "", api.ErrHandle}, {pageNodes + 1, 0, "a", api.ErrHandle}, {34, 9, "", api.ErrKind}, {7, 0, "", api.ErrKind}, {1, 0, "a", api.ErrKind}, {14, 8, "", api.ErrArg}, {14, -1, "a", api.ErrArg},
		{14, 0, "", api.ErrChar}, {14, 0, "a b", api.ErrChar}, {14, api.XML, "a=", api.ErrChar}, {22, 0, "/", api.ErrChar}, {14, 0, "a>", api.ErrChar}, {14, 0, "\x00", api.ErrChar}, {14, 0, "a\r", api.ErrChar}, {14, 0, "=", api.ErrChar},
	} {
		if got := dom.SetAttribute(a, x.el, x.space, x.name, "v"); got != x.want {
			t.Errorf("SetAttribute(%d, %d, %q) = %d, want %d", x.el, x.space, x.name, got, x.want)
		}
	}
	if !a.Equal(page(t)) {
		t.Error("errors change nodes")
	}
}

// P5.3: RemoveAttribute.
func TestRemoveAttribute(t *testing.T) {
	a := page(t)
	for _, x := range []struct {
		el    int
		space api.Space
		name  string
		is    bool
		want  api.Errno
	}{
		{14, 0, "LANG", false, api.OK}, {14, 0, "Id", true, api.OK}, {14, 0, "id", false, api.OK}, {14, api.XML, "ID", false, api.OK}, {14, api.Other, "id", false, api.OK}, {14, 0, "", false, api.OK}, {14, 0, "a b", false, api.OK},
		{22, 0, "LANG", false, api.OK}, {22, 0, "Lang", true, api.OK}, {22, 0, "id", true, api.OK}, {22, 0, "id", false, api.OK},
		{0, 0, "id", false, api.ErrHandle}, {34, 9, "id", false, api.ErrKind}, {14, 9, "id", false, api.ErrArg},
	} {
		if is, e := dom.RemoveAttribute(a, x.el, x.space, x.name); is != x.is || e != x.want {
			t.Errorf("RemoveAttribute(%d, %d, %q) = %v, %d", x.el, x.space, x.name, is, e)
		}
	}
	if got, want := nodeOf(a, 14).Attrs, []api.Attr{attr(api.XML, "id", "x"), attr(0, "LANG", "y")}; !slices.Equal(got, want) {
		t.Errorf("%v, want %v", got, want)
	}
	if got := nodeOf(a, 22).Attrs; len(got) != 0 {
		t.Errorf("%v", got)
	}
}

// P5.3, R3: a nil arena.
func TestAttributesOfNil(t *testing.T) {
	for _, h := range anyHandles() {
		checkNil(t, createElement(h, "p"), createElement(h, ""), attribute(h, 0, "id"), setAttribute(h, 0, "id", ""), setAttribute(h, 9, "", ""), removeAttribute(h, -1, ""))
	}
}
