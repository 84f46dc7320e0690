package builder_test

import (
	"math"
	"slices"
	"strings"
	"testing"

	"thicket/api"
	"thicket/arena"
	"thicket/stack"
)

// P7.2: each node that is inserted, at each place.
func TestInsertByRules(t *testing.T) {
	calls := []call{
		insert(tag("p", attr(0, "x", "1"))), insert(tag("table")), insert(tag("template")), insertForeign(tag("foreignobject"), api.SVG), insertForeign(tag("p"), 9), format(tag("b")), char('x'),
		comment("c", 0), rawText(tag("title"), api.RCDATAState),
	}
	items := hallItems()
	stacks(t, items, 2, func(open []stack.Item) {
		for _, isFoster := range []bool{false, true} {
			b := inHall(t, open...)
			b.Foster = isFoster
			checkOn(t, b, calls...)
		}
	})
}

// P7.2: what is created for each intended parent.
func TestCreateByRules(t *testing.T) {
	attrs := []api.Attr{
		attr(0, "a", "1"), attr(api.XML, "a", "2"), attr(api.Other, "viewbox", "3"), attr(0, "definitionurl", "4"), attr(0, "xlink:href", "5"), attr(0, "xmlns", "6"),
		attr(0, "encoding", "TEXT/html"), attr(0, "encoding", "x"),
	}
	for _, name := range []string{"p", "P", "", "template", "foreignobject", "foreignObject", "desc", "annotation-xml", "mi", "\xFF", "clippath", "a b"} {
		for _, space := range slices.Concat(anySpaces(), noSpaces()) {
			b := inHall(t, element(2, "html"))
			for _, parent := range []int{0, 1, 3, 10, 27, 99} {
				checkOn(t, b, create(tag(name, attrs...), space, parent), create(tag(name), space, parent))
			}
			checkOn(t, b, insertForeign(tag(name, attrs...), space))
		}
	}
	b := inHall(t, element(2, "html"))
	for _, parent := range hallTargets() {
		checkOn(t, b, create(tag("p", attrs...), api.HTML, parent), create(tag("template"), api.HTML, parent), create(tag("template"), api.SVG, parent))
	}
}

// P7.2: the element of a token, and its item.
func TestCreate(t *testing.T) {
	b := onDocument(t)
	for i, x := range []struct {
		t     api.Token
		space api.Space
		want  stack.Item
		attrs []api.Attr
	}{
		{tag("p", attr(0, "a", "1"), attr(0, "b", "2"), attr(0, "a", "3")), api.HTML, element(2, "p"), []api.Attr{attr(0, "a", "1"), attr(0, "b", "2")}},
		{tag("p", attr(api.XML, "a", "1"), attr(9, "b", "2"), attr(0, "a", "3")), api.HTML, element(3, "p"), []api.Attr{attr(0, "a", "1"), attr(0, "b", "2")}},
		{tag("foreignobject", attr(0, "viewbox", "1"), attr(0, "xlink:href", "2")), api.SVG, stack.Item{Node: 4, Space: api.SVG, Name: "foreignObject", Point: true}, []api.Attr{attr(0, "viewBox", "1"), attr(api.XLink, "href", "2")}},
		{tag("foreignobject", attr(0, "viewbox", "1")), api.HTML, element(5, "foreignobject"), []api.Attr{attr(0, "viewbox", "1")}},
		{tag("foreignobject", attr(0, "viewbox", "1"), attr(0, "definitionurl", "2")), api.MathML, stack.Item{Node: 6, Space: api.MathML, Name: "foreignobject"}, []api.Attr{attr(0, "viewbox", "1"), attr(0, "definitionURL", "2")}},
		{tag("annotation-xml", attr(api.XLink, "encoding", "Text/HTML")), api.MathML, stack.Item{Node: 7, Space: api.MathML, Name: "annotation-xml", Point: true}, []api.Attr{attr(0, "encoding", "Text/HTML")}},
		{tag("annotation-xml"), api.MathML, stack.Item{Node: 8, Space: api.MathML, Name: "annotation-xml"}, nil},
		{tag("title"), api.SVG, stack.Item{Node: 9, Space: api.SVG, Name: "title", Point: true}, nil},
		{api.Token{Kind: api.EndTag, Name: "x", Data: "y", SelfClosing: true}, api.NoSpace, stack.Item{Node: 10, Name: "x"}, nil},
		{api.Token{}, api.Other, stack.Item{Node: 11, Space: api.Other}, nil},
	} {
		is(t, "Create", b.Create(x.t, x.space, 1), x.want)
		n := nodeOf(b.Tree, i+2)
		if n.Kind != api.Element || n.Space != x.want.Space || n.Name != x.want.Name || !slices.Equal(n.Attrs, x.attrs) || n.Parent != 0 || n.Doc != 1 {
			t.Errorf("%+v in %d: the element is %+v", x.t, x.space, n)
		}
	}
	for _, space := range noSpaces() {
		is(t, "Create for no namespace", b.Create(tag("p"), space, 1), stack.Item{})
		is(t, "InsertForeign for no namespace", b.InsertForeign(tag("p"), space), 0)
	}
	is(t, "the number of nodes", b.Tree.Len(), 11)
	openAre(t, b)
}

// P7.2: the node documents of what is created.
func TestNodeDocuments(t *testing.T) {
	for parent, doc := range map[int]int{0: 1, -1: 1, 99: 1, 1: 1, 3: 1, 4: 1, 8: 9, 9: 9, 10: 9, 12: 9, 22: 22, 23: 22, 25: 1, 26: 22, 27: 1, 28: 28, 29: 1} {
		b := inHall(t, element(2, "html"))
		item := b.Create(tag("p"), api.HTML, parent)
		is(t, "the node document", nodeOf(b.Tree, item.Node).Doc, doc)
		b.Comment("x", parent)
		if n := nodeOf(b.Tree, item.Node+1); n.Kind == api.Comment && n.Doc != nodeOf(b.Tree, max(parent, 1)).Doc {
			t.Errorf("the comment in %d has the node document %d", parent, n.Doc)
		}
	}
	b := inHall(t, element(2, "html"), element(8, "template"))
	b.Insert(tag("p"))
	b.Char('x')
	b.Comment("c", 0)
	for h := 30; h <= 32; h++ {
		is(t, "a node document in contents", nodeOf(b.Tree, h).Doc, 9)
	}
	b = inHall(t, element(2, "html"), element(26, "p"))
	b.Insert(tag("template")) // 30, and its contents 31
	b.Insert(tag("p"))
	b.Char('x')
	for h, doc := range map[int]int{30: 22, 31: 28, 32: 28, 33: 28} {
		is(t, "a node document", nodeOf(b.Tree, h).Doc, doc)
	}
	is(t, "the number of nodes", b.Tree.Len(), 33)
}

// P7.2: templates are created with their contents, and what is inserted stands in
// them.
func TestInsertIntoTemplates(t *testing.T) {
	b := inBody(t)
	is(t, "Insert(template)", b.Insert(tag("template")), 4) // 5: the inert document, 6: the contents
	is(t, "Format(b)", b.Format(tag("b", attr(0, "x", "1"))), 7)
	b.Char('a')
	b.Open.PopNode(7)
	b.Comment("c", 0)
	b.Comment("d", 4)
	is(t, "Insert(template)", b.Insert(tag("template")), 11) // 12: the contents
	is(t, "InsertForeign(p)", b.InsertForeign(tag("p"), api.SVG), 13)
	dumpIs(t, b, 3, `element 1 "body"`, `  element 1 "template"`, `    contents`, `      element 1 "b" 0:"x"="1"`, `        text "a"`, `      comment "c"`,
		`      element 1 "template"`, `        contents`, `          element 2 "p"`, `    comment "d"`)
	openAre(t, b, 2, 3, 4, 11, 13)
	activeAre(t, b, 7)
	is(t, "the number of nodes", b.Tree.Len(), 13)
}

// P7.2: formatting elements are listed under the name and the attributes of their
// token.
func TestFormat(t *testing.T) {
	b := inBody(t)
	attrs := []api.Attr{attr(api.XLink, "x", "1"), attr(0, "x", "2"), attr(9, "y", "3")}
	is(t, "Format", b.Format(tag("b", attrs...)), 4)
	is(t, "Active", b.Snapshot().Active, []api.Entry{{Node: 4, Name: "b", Attrs: attrs}})
	is(t, "the attributes", nodeOf(b.Tree, 4).Attrs, []api.Attr{attr(0, "x", "1"), attr(0, "y", "3")})
	attrs[0].Value = "changed"
	is(t, "the entry", b.Snapshot().Active[0].Attrs[0].Value, "1")
	is(t, "the current node", b.Current(), element(4, "b"))
	for range 4 { // of four that are alike, the first one is not listed any more
		b.Format(tag("i"))
	}
	activeAre(t, b, 4, 6, 7, 8)
	openAre(t, b, 2, 3, 4, 5, 6, 7, 8)
}

// P7.2: characters, in elements and before tables.
func TestChar(t *testing.T) {
	b := inBody(t, "table")
	b.Char('a')
	b.Char('b')
	b.Foster = true
	b.Char('c')
	b.Char('d')
	b.Insert(tag("i"))
	b.Char('e')
	b.Open.Pop()
	b.Char('f')
	dumpIs(t, b, 3, `element 1 "body"`, `  text "cd"`, `  element 1 "i"`, `    text "e"`, `  text "f"`, `  element 1 "table"`, `    text "ab"`)
	b.Open.Pop()
	b.Char('g') // behind the table
	b.Char('h')
	b.Comment("c", 0)
	b.Char('i')
	dumpIs(t, b, 3, `element 1 "body"`, `  text "cd"`, `  element 1 "i"`, `    text "e"`, `  text "f"`, `  element 1 "table"`, `    text "ab"`, `  text "gh"`, `  comment "c"`, `  text "i"`)
}

// P7.2: every sort of rune.
func TestCharRunes(t *testing.T) {
	for r, want := range map[rune]string{
		'x': "x", 0: "\x00", 0x7F: "\x7F", 0x80: "\u0080", 0x7FF: "\u07FF", 0x800: "\u0800", 0xFFFD: "\uFFFD", 0xFFFF: "\uFFFF", 0x10000: "\U00010000", 0x10FFFF: "\U0010FFFF",
		0xD7FF: "\uD7FF", 0xE000: "\uE000", 0xD800: "\uFFFD", 0xDBFF: "\uFFFD", 0xDC00: "\uFFFD", 0xDFFF: "\uFFFD", 0x110000: "\uFFFD", -1: "\uFFFD", math.MaxInt32: "\uFFFD", math.MinInt32: "\uFFFD",
		'"': `"`, '\n': "\n",
	} {
		b := inBody(t)
		b.Char(r)
		is(t, "a new text", nodeOf(b.Tree, 4).Data, want)
		b.Char(r)
		b.Char('y')
		b.Char(r)
		is(t, "a text that grows", nodeOf(b.Tree, 4).Data, want+want+"y"+want)
		is(t, "the number of nodes", b.Tree.Len(), 4)
	}
}

// P7.2: the text before a place takes the characters, whoever put it there, and
// whatever is in it.
func TestCharJoins(t *testing.T) {
	for _, data := range []string{"", "a", "\xFF", strings.Repeat("b", 100)} {
		b := inHall(t, element(2, "html"), element(3, "body"), element(5, "table"))
		b.Foster = true
		b.Tree.SetData(4, data)
		b.Char('x')
		is(t, "the text before the table", nodeOf(b.Tree, 4).Data, data+"x")
		b.Tree.SetData(14, data)
		b.Open.Pop()
		b.Char('y')
		is(t, "the text at the end", nodeOf(b.Tree, 14).Data, data+"y")
		is(t, "the number of nodes", b.Tree.Len(), hallNodes+1)
	}
	b := inHall(t, element(2, "html"), element(12, "table"))
	b.Foster = true
	b.Tree.Put(10, 12, 11)
	b.Char('x') // there is nothing before the table
	is(t, "the children of the contents", b.Tree.Kids(10), []int{30, 12, 11})
	is(t, "the text behind the table", nodeOf(b.Tree, 11).Data, "b")
}

// P7.2: characters and comments where they cannot be.
func TestNoParents(t *testing.T) {
	for _, h := range []int{0, -1, 4, 20, 21, 99} {
		b := inHall(t, element(2, "html"), element(h, "p"))
		before := stateOf(b)
		b.Char('x')
		b.Comment("c", 0)
		if h != 0 {
			b.Comment("c", h)
		}
		if d := difference((*state)(b), before); d != "" {
			t.Errorf("an open %d: %s has changed", h, d)
		}
	}
	b := inHall(t, element(22, "p"))
	b.Char('x')
	is(t, "the number of nodes", b.Tree.Len(), hallNodes+1)
	b.Comment("c", 0)
	is(t, "a comment in a document", b.Tree.Kids(22), []int{30})
	is(t, "its node document", nodeOf(b.Tree, 30).Doc, 22)
}

// P7.2: comments, at places and in parents.
func TestComment(t *testing.T) {
	for _, parent := range hallTargets() {
		b := inHall(t, element(2, "html"), element(3, "body"), element(5, "table"))
		checkOn(t, b, comment("", parent), comment("x--\xFF", parent))
		b.Foster = true
		checkOn(t, b, comment("", parent), comment("x--\xFF", parent))
	}
	b := inBody(t, "table")
	b.Foster = true
	b.Comment("a", 0)
	b.Comment("b", 4)
	b.Comment("c", 1)
	b.Comment("d", 2)
	dumpIs(t, b, 1, `document`, `  element 1 "html"`, `    element 1 "body"`, `      comment "a"`, `      element 1 "table"`, `        comment "b"`, `    comment "d"`, `  comment "c"`)
}

// P7.2: raw text.
func TestRawText(t *testing.T) {
	for _, mode := range []api.Mode{0, api.Initial, api.InHead, api.InText, api.InTable, -3, 99} {
		for _, content := range []api.State{0, api.DataState, api.RCDATAState, api.PlaintextState, -1, 99} {
			b := inBody(t)
			b.Mode, b.Original, b.Switch = mode, api.InCell, api.ScriptState
			b.RawText(tag("title", attr(0, "x", "1")), content)
			if b.Mode != api.InText || b.Original != mode || b.Switch != content {
				t.Errorf("in the mode %d, RawText with %d: %+v", mode, content, *b)
			}
			openAre(t, b, 2, 3, 4)
			dumpIs(t, b, 3, `element 1 "body"`, `  element 1 "title" 0:"x"="1"`)
		}
	}
}

// P7.2: attributes that are added.
func TestMerge(t *testing.T) {
	for _, x := range []struct {
		name            string
		has, more, want []api.Attr
	}{
		{"nothing", nil, nil, nil},
		{"the first ones", nil, []api.Attr{attr(0, "b", "1"), attr(0, "a", "2")}, []api.Attr{attr(0, "b", "1"), attr(0, "a", "2")}},
		{"no more", []api.Attr{attr(0, "b", "1")}, nil, []api.Attr{attr(0, "b", "1")}},
		{"more", []api.Attr{attr(0, "b", "1")}, []api.Attr{attr(0, "a", "2")}, []api.Attr{attr(0, "b", "1"), attr(0, "a", "2")}},
		{"one that is there", []api.Attr{attr(0, "b", "1")}, []api.Attr{attr(0, "b", "2"), attr(0, "c", "3")}, []api.Attr{attr(0, "b", "1"), attr(0, "c", "3")}},
		{"one twice", nil, []api.Attr{attr(0, "b", "1"), attr(0, "b", "2")}, []api.Attr{attr(0, "b", "1")}},
		{"one of a namespace is there", []api.Attr{attr(api.XML, "b", "1")}, []api.Attr{attr(0, "b", "2")}, []api.Attr{attr(api.XML, "b", "1"), attr(0, "b", "2")}},
		{"one of a namespace comes", []api.Attr{attr(0, "b", "1")}, []api.Attr{attr(api.XML, "b", "2"), attr(api.XML, "c", "3"), attr(77, "d", "4")}, []api.Attr{attr(0, "b", "1"), attr(0, "c", "3"), attr(0, "d", "4")}},
		{"other letters", []api.Attr{attr(0, "b", "1")}, []api.Attr{attr(0, "B", "2"), attr(0, "", "3")}, []api.Attr{attr(0, "b", "1"), attr(0, "B", "2"), attr(0, "", "3")}},
		{"names that are not adjusted", nil, []api.Attr{attr(0, "viewbox", "1"), attr(0, "xlink:href", "2")}, []api.Attr{attr(0, "viewbox", "1"), attr(0, "xlink:href", "2")}},
	} {
		for _, space := range anySpaces() {
			b := inBody(t)
			b.Tree.Element(1, space, "p", x.has)
			checkOn(t, b, merge(tag("q", x.more...), 4))
			b.Merge(api.Token{Kind: api.EndTag, Attrs: x.more}, 4)
			if n := nodeOf(b.Tree, 4); !slices.Equal(n.Attrs, x.want) {
				t.Errorf("%s: %+v, want %+v", x.name, n.Attrs, x.want)
			}
		}
	}
	b := inHall(t, element(2, "html"))
	for _, h := range hallTargets() {
		checkOn(t, b, merge(tag("q", attr(0, "x", "1")), h))
	}
	for _, h := range []int{0, -1, 1, 4, 10, 17, 20, 21, 99} {
		before := b.Tree.Copy()
		b.Merge(tag("q", attr(0, "x", "1")), h)
		if !b.Tree.Equal(before) {
			t.Errorf("Merge with %d has changed the arena", h)
		}
	}
}

// R4: what is passed in is not kept.
func TestTokensAreCopied(t *testing.T) {
	b := inBody(t)
	t1 := tag("b", attr(0, "x", "1"), attr(0, "y", "2"))
	b.Insert(t1)
	b.Format(t1)
	b.Create(t1, api.SVG, 1)
	b.InsertForeign(t1, api.MathML)
	b.Merge(t1, 2)
	b.RawText(t1, api.RCDATAState)
	if !slices.Equal(t1.Attrs, []api.Attr{attr(0, "x", "1"), attr(0, "y", "2")}) {
		t.Errorf("the token has become %+v", t1)
	}
	want := stateOf(b)
	t1.Attrs[0], t1.Attrs[1].Value = attr(api.XML, "z", "3"), "4"
	if d := difference((*state)(b), want); d != "" {
		t.Errorf("a changed token changes %s", d)
	}
}

// R4: nothing is written behind the end of a list that was passed in.
func TestSharedAttributes(t *testing.T) {
	all := []api.Attr{attr(0, "x", "1"), attr(0, "y", "2"), attr(0, "z", "3")}
	b := inBody(t)
	b.Merge(tag("p", all[:1]...), 3)
	b.Insert(tag("p", all[:2]...))
	is(t, "the list", all, []api.Attr{attr(0, "x", "1"), attr(0, "y", "2"), attr(0, "z", "3")})
	is(t, "body", nodeOf(b.Tree, 3).Attrs, all[:1])
	is(t, "p", nodeOf(b.Tree, 4).Attrs, all[:2])
}

// P0.1: many siblings, a long text, and many levels.
func TestLargeTrees(t *testing.T) {
	const many = 1 << 13
	b := inBody(t)
	for range many {
		b.Char('x')
	}
	for range many {
		b.Insert(tag("br"))
		b.Open.Pop()
	}
	is(t, "the number of children", len(b.Tree.Kids(3)), many+1)
	is(t, "the text", nodeOf(b.Tree, 4).Data, strings.Repeat("x", many))
	const levels = 1 << 16
	b = inBody(t)
	b.Format(tag("b"))
	for range levels {
		b.Insert(tag("span"))
	}
	b.Insert(tag("p"))
	b.Rebuild()
	b.CloseP()
	b.Insert(tag("p"))
	b.Reset()
	b.Agency("b")
	b.AnyEnd("span")
	b.Foster = true
	b.Char('x')
	is(t, "the mode", b.Mode, api.InBody)
	if !arena.Sound(b.Tree.Nodes()) {
		t.Error("not sound")
	}
	is(t, "the number of open elements", b.Open.Len(), 3)
}
