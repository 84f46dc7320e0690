package arena_test

import (
	"math/rand/v2"
	"slices"
	"testing"

	"thicket/api"
	"thicket/arena"
)

// pageMakers are changes of which each one makes a difference to a page.
func pageMakers() []change {
	return []change{
		document(false), element(1, api.HTML, "p"), inert(17), put(3, 20, 0), put(3, 4, 0), cut(8), cut(9), setData(10, "new"), setData(4, "new"), setAttrs(14), setAttrs(5, attr(0, "a", "b")),
		setQuirks(1, false), setQuirks(6, true), setDoc(20, 1), setDoc(7, 1), setDoc(3, 6),
	}
}

// P4.5: a copy has the same nodes and inert documents.
func TestCopy(t *testing.T) {
	a, r := page(t), pageByRules()
	b := a.Copy()
	if b == a || b.Len() != pageNodes || !sameNodes(b.Nodes(), r.nodes) || !a.Equal(b) || !b.Equal(a) {
		t.Errorf("%+v, want %+v", b.Nodes(), r.nodes)
	}
	for _, c := range []change{inert(6), inert(1), element(1, api.HTML, "template"), inert(17), inert(6), inert(24)} {
		check(t, b, r, c)
	}
	if empty := arena.New().Copy(); empty == nil || empty.Len() != 0 || empty.Document(true) != 1 {
		t.Error("a copy of no nodes")
	}
	var none *arena.Arena
	if none.Copy() != nil {
		t.Error("a copy of nil")
	}
}

// P4.5: neither the copy nor the original changes with the other.
func TestCopyIsIndependent(t *testing.T) {
	for _, c := range pageMakers() {
		a, r := page(t), pageByRules()
		b := a.Copy()
		check(t, a, r, c)
		if !sameNodes(b.Nodes(), pageByRules().nodes) || a.Equal(b) || b.Equal(a) {
			t.Errorf("%s changes the copy, or nothing", c.name)
		}
		a = page(t)
		b = a.Copy()
		c.call(b)
		if !sameNodes(a.Nodes(), pageByRules().nodes) || !sameNodes(b.Nodes(), r.nodes) || a.Equal(b) {
			t.Errorf("%s changes the original, or nothing", c.name)
		}
	}
}

// P4.5: lists that grow and shrink in a copy stay what they are in the
// original.
func TestCopySharesNoLists(t *testing.T) {
	a := page(t)
	a.Cut(14)
	b, c := a.Copy(), a.Copy()
	b.Put(3, 20, 0)
	c.Put(3, 14, 0)
	a.Put(3, 16, 4)
	if !slices.Equal(a.Kids(3), []int{16, 4, 5}) || !slices.Equal(b.Kids(3), []int{4, 5, 20}) || !slices.Equal(c.Kids(3), []int{4, 5, 14}) {
		t.Errorf("%v, %v, %v", a.Kids(3), b.Kids(3), c.Kids(3))
	}
	if x, y := a.Document(false), b.Document(true); x != pageNodes+1 || y != x || c.Len() != pageNodes {
		t.Errorf("%d, %d, %d nodes", x, y, c.Len())
	}
}

// P4.5: arenas are equal if they came to be in the same way, and if they became
// the same in other ways.
func TestEqual(t *testing.T) {
	if !page(t).Equal(page(t)) {
		t.Error("two pages")
	}
	for _, c := range pageMakers() {
		a, b := page(t), page(t)
		c.call(a)
		if a.Equal(b) || b.Equal(a) {
			t.Errorf("equal in spite of %s", c.name)
		}
		c.call(b)
		if !a.Equal(b) || !b.Equal(a) {
			t.Errorf("not equal after %s", c.name)
		}
	}
	a, b := page(t), page(t)
	for _, c := range []change{
		put(14, 20, 0), cut(20), cut(13), put(12, 13, 0), cut(14), put(3, 14, 0), setDoc(20, 1), setDoc(20, 17), setData(4, ""), setData(4, "c"),
		setAttrs(14), setAttrs(14, attr(0, "id", "x"), attr(api.XML, "lang", "y"), attr(0, "id", "z")), setQuirks(1, false), setQuirks(1, true), inert(1), inert(6),
		setAttrs(9, attr(0, "a", "b")), setAttrs(9),
	} {
		c.call(a)
	}
	if !a.Equal(b) || !b.Equal(a) {
		t.Errorf("not equal after changes and back: %+v", a.Nodes())
	}
}

// P4.5: each field counts.
func TestEqualComparesEachField(t *testing.T) {
	for _, pair := range [][2][]change{
		{{document(true)}, {document(false)}},
		{{document(true)}, {document(true), document(true)}},
		{{document(true), text(1, "")}, {document(true), comment(1, "")}},
		{{document(true), text(1, "a")}, {document(true), text(1, "b")}},
		{{document(true), document(true), text(1, "a")}, {document(true), document(true), text(2, "a")}},
		{{document(true), doctype(1, "a", "b", "c")}, {document(true), doctype(1, "", "b", "c")}},
		{{document(true), doctype(1, "a", "b", "c")}, {document(true), doctype(1, "a", "", "c")}},
		{{document(true), doctype(1, "a", "b", "c")}, {document(true), doctype(1, "a", "b", "")}},
		{{document(true), element(1, 0, "a")}, {document(true), element(1, 1, "a")}},
		{{document(true), element(1, 0, "a")}, {document(true), element(1, 0, "b")}},
		{{document(true), element(1, 0, "a", attr(0, "a", "b"))}, {document(true), element(1, 0, "a")}},
		{{document(true), element(1, 0, "a", attr(0, "a", "b"))}, {document(true), element(1, 0, "a", attr(0, "a", "c"))}},
		{{document(true), element(1, 0, "a", attr(0, "a", ""), attr(0, "b", ""))}, {document(true), element(1, 0, "a", attr(0, "b", ""), attr(0, "a", ""))}},
		{{document(true), text(1, "a"), text(1, "b")}, {document(true), text(1, "b"), text(1, "a")}},
		{{document(true), comment(1, "a"), put(1, 2, 0)}, {document(true), comment(1, "a")}},
		{{document(true), comment(1, ""), comment(1, ""), put(1, 2, 0), put(1, 3, 0)}, {document(true), comment(1, ""), comment(1, ""), put(1, 3, 0), put(1, 2, 0)}},
	} {
		a, b := arena.New(), arena.New()
		for _, c := range pair[0] {
			c.call(a)
		}
		for _, c := range pair[1] {
			c.call(b)
		}
		if a.Equal(b) || b.Equal(a) || !a.Equal(a) || !b.Equal(b) {
			t.Errorf("%+v, %+v", a.Nodes(), b.Nodes())
		}
	}
}

// P4.5: inert documents count, though no description tells them.
func TestEqualComparesInertDocuments(t *testing.T) {
	var all []*arena.Arena
	for _, calls := range [][]change{
		{document(false), document(false), document(false)},
		{document(false), inert(1), document(false)},
		{document(false), document(false), inert(1)},
		{document(false), document(false), inert(2)},
		{document(false), inert(1), document(false), inert(2)}, // like number 1
	} {
		a := arena.New()
		for _, c := range calls {
			c.call(a)
		}
		all = append(all, a)
	}
	for i, a := range all {
		for j, b := range all {
			if want := i == j || i+j == 5 && i*j == 4; !sameNodes(a.Nodes(), b.Nodes()) || a.Equal(b) != want || a.Equal(b.Copy()) != want {
				t.Errorf("arenas %d and %d: %v", i, j, a.Equal(b))
			}
		}
	}
}

// P4.5: a nil arena counts as one without nodes.
func TestEqualNil(t *testing.T) {
	var none *arena.Arena
	if !none.Equal(none) || !none.Equal(arena.New()) || !arena.New().Equal(none) || !none.Equal(&arena.Arena{}) {
		t.Error("no nodes")
	}
	if none.Equal(page(t)) || page(t).Equal(none) || arena.New().Equal(page(t)) {
		t.Error("some nodes")
	}
}

// P4.5: what equal trees have equal, and what they need not.
func TestSame(t *testing.T) {
	r := newByRules()
	a := arena.New()
	tree := func(calls ...change) int {
		first := a.Len() + 1
		for _, c := range calls {
			check(t, a, r, c)
		}
		return first
	}
	tree(document(false), document(false), element(1, api.HTML, "template"), element(2, api.HTML, "template"))
	if !a.Same(3, a, 6) || !a.Same(5, a, 8) || !a.Same(1, a, 2) || !a.Same(1, a, 4) {
		t.Error("equal trees with other documents")
	}
	x := tree(element(1, api.HTML, "p"), text(2, "1"), comment(1, "2"), put(9, 10, 0), put(9, 11, 0))
	y := tree(text(1, "1"), comment(1, "2"), element(2, api.HTML, "p"), put(14, 12, 0), put(14, 13, 0)) + 2
	if !a.Same(x, a, y) || !a.Same(y, a, x) {
		t.Error("equal trees with other handles")
	}
	for _, c := range []change{setData(12, "x"), setAttrs(y, attr(0, "a", "")), put(y, 12, 0), cut(13), put(y, 1, 0), put(y, 3, 0), put(12, 13, 0)} {
		b := a.Copy()
		if _, e := c.call(b); e == api.OK && (b.Same(x, b, y) || a.Same(x, b, y) || b.Same(y, a, x) || !a.Same(x, b, x)) {
			t.Errorf("the same in spite of %s", c.name)
		}
	}
	checkQueries(t, a, r)
	for _, c := range []change{put(5, x, 0), put(6, y, 0)} {
		check(t, a, r, c)
		if a.Same(3, a, 6) || a.Same(6, a, 3) {
			t.Errorf("the same in spite of %s", c.name)
		}
	}
	check(t, a, r, put(8, y, 0))
	if !a.Same(3, a, 6) || !a.Same(5, a, 8) {
		t.Error("templates with equal contents")
	}
}

// P4.5: each field counts; contents and a fragment can have equal trees.
func TestSameComparesEachField(t *testing.T) {
	a := arena.New()
	for _, c := range []change{
		document(false), document(true), fragment(1), text(1, ""), text(1, "a"), comment(1, ""), comment(1, "a"),
		doctype(1, "", "", ""), doctype(1, "a", "", ""), doctype(1, "", "a", ""), doctype(1, "", "", "a"),
		element(1, 0, ""), element(1, 1, ""), element(1, 1, "a"), element(1, 2, "a"), element(1, 1, "a", attr(0, "a", "")), element(1, 1, "a", attr(1, "a", "")), element(1, 1, "a", attr(0, "b", "")),
		element(1, 1, "a", attr(0, "a", "1")), element(1, 1, "a", attr(0, "a", ""), attr(0, "b", "")), element(1, 1, "a", attr(0, "b", ""), attr(0, "a", "")),
		element(1, 2, "template"), element(1, 1, "Template"), element(1, 1, "template"),
	} {
		c.call(a)
	}
	inert, contents := 25, 26
	for h := 1; h <= a.Len(); h++ {
		for k := 1; k <= a.Len(); k++ {
			want := h == k || h == 1 && k == inert || h == inert && k == 1 || h == 3 && k == contents || h == contents && k == 3
			if a.Same(h, a, k) != want {
				t.Errorf("Same(%d, %d) = %v", h, k, !want)
			}
		}
	}
}

// P4.5: the shape of a tree counts.
func TestSameComparesShapes(t *testing.T) {
	a := arena.New()
	a.Document(false)
	var roots []int
	for parents := range 12 { // four elements, each below one of those before it
		root := a.Len() + 1
		for i := range 4 {
			a.Element(1, api.HTML, "p", nil)
			if below := []int{0, 0, parents % 2, parents / 2 % 3}[i]; i > 0 {
				a.Put(root+below, root+i, 0)
			}
		}
		roots = append(roots, root)
	}
	for _, h := range roots {
		for _, k := range roots {
			if want := a.Dump(h) == a.Dump(k); a.Same(h, a, k) != want {
				t.Errorf("Same is %v for\n%sand\n%s", !want, a.Dump(h), a.Dump(k))
			}
		}
	}
	if a.Dump(roots[0]) == a.Dump(roots[1]) || a.Same(roots[0], a, roots[1]) || !a.Same(roots[0], a, roots[6]) {
		t.Error("other shapes are the same")
	}
}

// P4.5: what does not exist is not the same as anything.
func TestSameOfNothing(t *testing.T) {
	a := page(t)
	var none *arena.Arena
	for _, no := range noHandles() {
		if a.Same(no, a, no) || a.Same(no, a, 1) || a.Same(1, a, no) {
			t.Errorf("%d is the same", no)
		}
	}
	for _, h := range anyHandles() {
		if a.Same(h, none, h) || none.Same(h, a, h) || none.Same(h, none, h) || a.Same(h, arena.New(), h) {
			t.Errorf("%d of nil is the same", h)
		}
		if none.Dump(h) != "" {
			t.Errorf("Dump(%d) of nil: %q", h, none.Dump(h))
		}
	}
}

// P4.5: Same and Dump agree, but for contents beside what is not contents.
func TestSameIsDump(t *testing.T) {
	attrs := attributeLists()[:20]
	for seed := range uint64(40) {
		a, r := arena.New(), newByRules()
		check(t, a, r, document(false))
		some := changes{rand.New(rand.NewPCG(seed, 5)), r, attrs}
		b := a.Copy()
		for i := range 60 {
			check(t, a, r, some.next())
			if i == 45 {
				b = a.Copy()
			}
		}
		for h, n := range a.Nodes() {
			for k, m := range b.Nodes() {
				dumps := a.Dump(h+1) == b.Dump(k+1)
				if (n.Host == 0) == (m.Host == 0) && a.Same(h+1, b, k+1) != dumps {
					t.Errorf("Same is %v for\n%sand\n%s", !dumps, a.Dump(h+1), b.Dump(k+1))
				}
			}
		}
	}
}

// P4.5: the lines of a dump.
func TestDump(t *testing.T) {
	a := page(t)
	want := `document quirks
  doctype "html" "p" "s"
  element 1 "html"
    comment "c"
    element 1 "template"
      contents
        element 1 "p"
          text "u"
        element 1 "template" 0:"a"="b"
          contents
            text ""
      text "t"
    element 1 "p" 0:"id"="x" 5:"lang"="y"
`
	if got := a.Dump(1); got != want {
		t.Errorf("%swant\n%s", got, want)
	}
	for h, want := range map[int]string{
		6: "document\n", 12: "contents\n  text \"\"\n", 15: "fragment\n  text \"v\"\n", 17: "document\n  element 2 \"template\"\n  comment \"\"\n", 21: "element 1 \"TEMPLATE\"\n",
	} {
		if got := a.Dump(h); got != want {
			t.Errorf("Dump(%d): %q, want %q", h, got, want)
		}
	}
	for _, no := range noHandles() {
		if got := a.Dump(no); got != "" {
			t.Errorf("Dump(%d): %q", no, got)
		}
	}
}

// P4.5: the quoted strings.
func TestDumpQuotes(t *testing.T) {
	dump := func(c change) string {
		a := arena.New()
		a.Document(false)
		c.call(a)
		return a.Dump(2)
	}
	all := make([]byte, 256)
	for b := range all {
		all[b] = byte(b)
	}
	for _, s := range append(strange(), string(all), `\n`, `\"`, "\\\n", `""`, `\\`, "a\n\n\"b\" \\ c", "\r\n") {
		q := inQuotes(s)
		for _, x := range []struct {
			c    change
			want string
		}{
			{text(1, s), "text " + q + "\n"},
			{comment(1, s), "comment " + q + "\n"},
			{doctype(1, s, "b", "c"), "doctype " + q + " \"b\" \"c\"\n"},
			{doctype(1, "a", s, "c"), "doctype \"a\" " + q + " \"c\"\n"},
			{doctype(1, "a", "b", s), "doctype \"a\" \"b\" " + q + "\n"},
			{element(1, api.Other, s), "element 7 " + q + "\n"},
			{element(1, api.NoSpace, "a", attr(6, s, "="), attr(4, "b", s)), "element 0 \"a\" 6:" + q + "=\"=\" 4:\"b\"=" + q + "\n"},
		} {
			if got := dump(x.c); got != x.want {
				t.Errorf("%s: %q, want %q", x.c.name, got, x.want)
			}
		}
	}
	if got := dump(text(1, "a\"b\\c\nd\r\x00\xFF")); got != "text \"a\\\"b\\\\c\\nd\r\x00\xFF\"\n" {
		t.Errorf("%q", got)
	}
}
