package builder_test

import (
	"slices"
	"strconv"
	"strings"
	"testing"

	"thicket/api"
	"thicket/builder"
	"thicket/stack"
)

// P7.4: what becomes of elements that overlap.
func TestAgencyMarkup(t *testing.T) {
	for words, want := range map[string]string{
		"b 1 i 2 /b 3 /i 4":                    "<b>1<i>2</i></b><i>3</i>4",
		"b 1 i 2 p 3 /b 4":                     "<b>1<i>2</i></b><i><p><b>3</b>4</p></i>",
		"b p 1 /b":                             "<b></b><p><b>1</b></p>",
		"a p /a /p":                            "<a></a><p><a></a></p>",
		"a 1 p 2 /a 3 /p":                      "<a>1</a><p><a>2</a>3</p>",
		"a 1 button 2 /a 3 /button":            "<a>1</a><button><a>2</a>3</button>",
		"a 1 ul 2 /a 3":                        "<a>1</a><ul><a>2</a>3</ul>",
		"a 1 ol li 2 /a 3":                     "<a>1</a><ol><a></a><li><a>2</a>3</li></ol>",
		"a 1 b 2 /a 3 /b":                      "<a>1<b>2</b></a><b>3</b>",
		"a 1 div 2 div 3 /a 4 /div 5 /div":     "<a>1</a><div><a>2</a><div><a>3</a>4</div>5</div>",
		"a 1 a 2 div 3 /a 4 /a 5":              "<a>1<a>2</a></a><div><a><a>3</a>4</a>5</div>",
		"b b a p /a":                           "<b><b><a></a><p><a></a></p></b></b>",
		"b a b p /a":                           "<b><a><b></b></a><b><p><a></a></p></b></b>",
		"a b b p /a":                           "<a><b><b></b></b></a><b><b><p><a></a></p></b></b>",
		"b em x-1 p /b /em 1":                  "<b><em><x-1></x-1></em></b><em></em><p><em><b></b></em>1</p>",
		"b em x-1 x-2 p /b":                    "<b><em><x-1><x-2></x-2></x-1></em></b><em><p><b></b></p></em>",
		"b em x-1 x-2 x-3 p /b":                "<b><em><x-1><x-2><x-3></x-3></x-2></x-1></em></b><p><b></b></p>",
		"b em 1 x-1 2 x-2 x-3 3 p 4 /b 5 /p 6": "<b><em>1<x-1>2<x-2><x-3>3</x-3></x-2></x-1></em></b><p><b>4</b>5</p>6",
		"i b tt u p 1 /i 2 /p 3":               "<i><b><tt><u></u></tt></b></i><b><tt><u><p><i>1</i>2</p>3</u></tt></b>",
		"i b tt u s p 1 /i 2 /p 3":             "<i><b><tt><u><s></s></u></tt></b></i><tt><u><s><p><i>1</i>2</p>3</s></u></tt>",
		"b span 1 /b 2":                        "<b><span>1</span></b>2",
		"b span 1 p 2 /b 3":                    "<b><span>1</span></b><p><b>2</b>3</p>",
		"b 1 div 2 p 3 address 4 /b 5":         "<b>1</b><div><b>2</b><p><b>3</b><address><b>4</b>5</address></p></div>",
		"b 1 table /b 2":                       "<b>1<table>2</table></b>",
		"b 1 /i 2":                             "<b>12</b>",
		"i b 1 /b 2 /i 3":                      "<i><b>1</b>2</i>3",
		"p b 1 /p 2 /b 3":                      "<p><b>1</b></p><b>2</b>3",
		"b 1 p 2 /p 3 /b 4":                    "<b>1<p>2</p>3</b>4",
		"b 1 template 2 /b 3":                  "<b>1<template>23</template></b>",
		"div b 1 p 2 /b 3":                     "<div><b>1</b><p><b>2</b>3</p></div>",
	} {
		b := inBody(t)
		read(b, words)
		if got := markup(b.Tree, 3); got != want {
			t.Errorf("%s: %s, want %s", words, got, want)
		}
	}
}

// P7.4: the examples of the chapter.
func TestAgencyExample(t *testing.T) {
	b := onDocument(t)
	for i, h := range []int{b.Insert(tag("html")), b.Insert(tag("body")), b.Format(tag("b")), b.Insert(tag("p"))} {
		is(t, "a handle", h, i+2)
	}
	b.Char('x')
	is(t, "the current node", b.Current(), element(5, "p"))
	b.Agency("b")
	dumpIs(t, b, 3, `element 1 "body"`, `  element 1 "b"`, `  element 1 "p"`, `    element 1 "b"`, `      text "x"`)
	openAre(t, b, 2, 3, 5)
	activeAre(t, b)
	is(t, "Format(i)", b.Format(tag("i")), 8)
	is(t, "PopNode(5)", b.Open.PopNode(5), 2)
	b.Rebuild()
	openAre(t, b, 2, 3, 9)
	activeAre(t, b, 9)
}

// P7.4: short sequences of elements, some of them formatting, by the rules.
func TestAgencyByRules(t *testing.T) {
	joined(t, []string{"b ", "i ", "p ", "td ", "x ", "1 ", "/p "}, 5, func(words string) {
		b := inBody(t)
		read(b, strings.ReplaceAll(words, "x", "x-1"))
		checkOn(t, b, agency("b"), agency("p"), agency("x-1"))
	})
}

// P7.4: many elements between the furthest block and the formatting element.
func TestAgencyManyBetween(t *testing.T) {
	joined(t, []string{"i ", "u ", "x-1 "}, 6, func(words string) {
		b := inBody(t)
		read(b, "b "+words+"p 1 div 2")
		if !strings.Contains(words, "x") {
			b.Active.Entries = append(b.Active.Entries, api.Entry{Node: 50, Name: "s"})
		}
		checkOn(t, b, agency("b"))
	})
}

// orders calls f with all lists of the numbers, in all orders.
func orders(numbers []int, f func(order []int)) {
	if len(numbers) == 0 {
		f(nil)
		return
	}
	for i, n := range numbers {
		orders(slices.Concat(numbers[:i], numbers[i+1:]), func(order []int) { f(slices.Concat([]int{n}, order)) })
	}
}

// P7.4: active formatting elements in other orders than the open ones. The
// elements are body 3, b 4, i 5, u 6, s 7, tt 8, p 9, div 10.
func TestAgencyOrders(t *testing.T) {
	names := []string{"b", "i", "u", "s", "tt", "p", "div"}
	orders([]int{4, 5, 6, 7, 8, 0}, func(order []int) {
		if t.Failed() {
			return
		}
		for left := range 1 << len(order) {
			if left%3 != 0 { // a part of them will do
				continue
			}
			b := inBody(t, names...)
			for i, node := range order {
				if left>>i&1 == 0 || node == 4 {
					b.Active.Entries = append(b.Active.Entries, entryFor(node, names))
				}
			}
			checkOn(t, b, agency("b"))
		}
	})
}

// entryFor returns the entry of one of the elements with these names, which have
// the nodes 4, 5, 6 and so on, or a marker.
func entryFor(node int, names []string) api.Entry {
	if node == 0 {
		return api.Entry{}
	}
	return api.Entry{Node: node, Name: names[node-4], Attrs: []api.Attr{attr(0, "n", strconv.Itoa(node))}}
}

// P7.4: the bookmark, as it shows while the algorithm has not come to its end
// after eight rounds: each div takes one round.
func TestAgencyBookmark(t *testing.T) {
	divs := slices.Repeat([]string{"div"}, 9)
	for _, x := range []struct {
		open, active []string
		want         []string
	}{
		{[]string{"b"}, []string{"b"}, []string{"b"}},
		{[]string{"b"}, []string{"s", "b", "tt"}, []string{"s", "b", "tt"}},
		{[]string{"b"}, []string{"b", "s", "tt"}, []string{"b", "s", "tt"}},
		{[]string{"b", "i"}, []string{"b", "i"}, []string{"i", "b"}},
		{[]string{"b", "i"}, []string{"i", "b"}, []string{"i", "b"}},
		{[]string{"b", "i"}, []string{"i", "s", "b", "tt"}, []string{"i", "b", "s", "tt"}},
		{[]string{"b", "i"}, []string{"s", "b", "i", "tt"}, []string{"s", "i", "b", "tt"}},
		{[]string{"b", "i"}, []string{"b", "s", "i", "tt"}, []string{"s", "i", "b", "tt"}},
		{[]string{"b", "i", "u"}, []string{"b", "i", "u"}, []string{"i", "u", "b"}},
		{[]string{"b", "i", "u"}, []string{"u", "s", "b", "i"}, []string{"u", "b", "s", "i"}},
		{[]string{"b", "span", "i", "span"}, []string{"s", "b", "i", "tt"}, []string{"s", "i", "b", "tt"}},
		{[]string{"b", "i", "span", "span", "span"}, []string{"s", "b", "i", "tt"}, []string{"s", "b", "tt"}},
		{[]string{"b", "i", "span", "span", "span"}, []string{"s", "i", "b", "tt"}, []string{"s", "b", "tt"}},
		{[]string{"b", "i", "em", "u", "big", "code"}, []string{"b", "s", "i", "em", "u", "big", "code", "tt"}, []string{"s", "u", "big", "code", "b", "tt"}},
		{[]string{"b", "i", "em", "u", "big", "code"}, []string{"i", "em", "s", "code", "tt", "b", "u", "big"}, []string{"s", "code", "b", "tt", "u", "big"}},
		{[]string{"b", "i", "em", "u", "big", "code"}, []string{"code", "i", "tt", "em", "b", "u", "big"}, []string{"code", "b", "tt", "u", "big"}},
	} {
		b := inBody(t, slices.Concat(x.open, divs)...)
		for _, name := range x.active {
			node := 40 + len(b.Active.Entries)
			if i := slices.Index(x.open, name); i >= 0 {
				node = i + 4
			}
			b.Active.Entries = append(b.Active.Entries, api.Entry{Node: node, Name: name})
		}
		b.Agency("b")
		var got []string
		for _, e := range b.Active.Entries {
			got = append(got, e.Name)
		}
		if !slices.Equal(got, x.want) {
			t.Errorf("open %v, active %v: then %v, want %v", x.open, x.active, got, x.want)
		}
	}
}

// P7.4: eight rounds, and no more, and at most 32 nodes.
func TestAgencyRounds(t *testing.T) {
	for n := 1; n <= 12; n++ {
		b := inBody(t)
		b.Format(tag("a", attr(0, "x", "1")))
		for i := range n {
			for _, name := range []string{"b", "i", "u"} {
				b.Format(tag(name, attr(0, "n", strconv.Itoa(i))))
			}
			b.Insert(tag("div"))
		}
		s, before := stateOf(b), b.Tree.Len()
		check(t, b, s, agency("a"))
		is(t, "the number of new nodes", b.Tree.Len()-before, 4*min(n, 8))
		is(t, "whether the element is still open", b.Open.Last("a") >= 0, n >= 8)
		is(t, "whether the element is still listed", b.Active.Find("a") >= 0, n >= 8)
		if n >= 8 {
			is(t, "the entry", b.Active.Entries[b.Active.Find("a")], api.Entry{Node: b.Tree.Len(), Name: "a", Attrs: []api.Attr{attr(0, "x", "1")}})
		}
	}
}

// P7.4: templates among the formatting elements bring their contents along, and
// nodes are moved into the templates themselves.
func TestAgencyTemplates(t *testing.T) {
	for _, names := range [][]string{{"template", "i", "p"}, {"b", "template", "p"}, {"template", "template", "p"}, {"b", "i", "template"}, {"b", "template", "i", "p"}} {
		for _, end := range []string{"b", "template", "i"} {
			for _, isFoster := range []bool{false, true} {
				b := inBody(t)
				for _, name := range names {
					b.Format(tag(name))
				}
				b.Foster = isFoster
				b.Char('x')
				checkOn(t, b, agency(end))
			}
		}
	}
	b := inBody(t)
	b.Format(tag("b"))
	b.Tree.Element(1, api.HTML, "template", nil) // 5, the inert document 6, the contents 7
	b.Tree.Text(1, "x")
	b.Tree.Put(5, 8, 0)
	b.Open.Push(element(5, "div")) // a template that is no boundary of the scope
	b.Agency("b")
	dumpIs(t, b, 3, `element 1 "body"`, `  element 1 "b"`, `  element 1 "template"`, `    contents`, `    element 1 "b"`, `      text "x"`)
	is(t, "the node document", nodeOf(b.Tree, 9).Doc, 6)
}

// P7.4: the ways in which the algorithm ends before it changes the tree.
func TestAgencyEnds(t *testing.T) {
	for _, x := range []struct {
		name       string
		open       []string
		active     []int
		end        string
		want, left []int
	}{
		{"the current node is not listed", []string{"b", "b"}, []int{4}, "b", []int{2, 3, 4}, []int{4}},
		{"no other element is closed with it", []string{"span"}, nil, "span", []int{2, 3}, nil},
		{"the current node is listed", []string{"b"}, []int{4}, "b", []int{2, 3}, nil},
		{"an element that is not listed, below", []string{"b", "i"}, []int{5}, "b", []int{2, 3}, []int{5}},
		{"an element that is not listed, below a special one", []string{"b", "p"}, nil, "b", []int{2, 3, 4, 5}, nil},
		{"nothing of this name", []string{"b", "i"}, []int{4, 5}, "u", []int{2, 3, 4, 5}, []int{4, 5}},
		{"not open", []string{"i"}, []int{4, 50}, "b", []int{2, 3, 4}, []int{4}},
		{"behind a marker", []string{"b", "i"}, []int{4, 0, 5}, "b", []int{2, 3}, []int{4, 0, 5}},
		{"in front of a marker", []string{"b", "i"}, []int{0, 4, 5}, "b", []int{2, 3}, []int{0, 5}},
		{"out of scope", []string{"b", "table", "i"}, []int{4, 6}, "b", []int{2, 3, 4, 5, 6}, []int{4, 6}},
		{"out of scope, and no block", []string{"b", "object"}, []int{4}, "b", []int{2, 3, 4, 5}, []int{4}},
		{"a boundary itself", []string{"object"}, []int{4}, "object", []int{2, 3}, nil},
		{"the last one with the name", []string{"b", "b", "i"}, []int{4, 5, 6}, "b", []int{2, 3, 4}, []int{4, 6}},
	} {
		b := inBody(t, x.open...)
		for _, node := range x.active {
			name := "b"
			if i := b.Open.Index(node); i >= 0 {
				name = b.Open.At(i).Name
			}
			b.Active.Entries = append(b.Active.Entries, api.Entry{Node: node, Name: name})
		}
		before := b.Tree.Copy()
		checkOn(t, b, agency(x.end))
		b.Agency(x.end)
		if got := b.Snapshot().Open; !slices.Equal(got, x.want) {
			t.Errorf("%s: open are %v, want %v", x.name, got, x.want)
		}
		activeAre(t, b, x.left...)
		if !b.Tree.Equal(before) {
			t.Errorf("%s: the arena has changed", x.name)
		}
	}
}

// P7.4: the first item of the stack.
func TestAgencyFirstItem(t *testing.T) {
	b := onDocument(t)
	b.Insert(tag("b"))
	b.Agency("b") // not listed, but the first item
	openAre(t, b, 2)
	b.Active.Push(api.Entry{Node: 2, Name: "b"})
	b.Agency("b")
	openAre(t, b, 2)
	activeAre(t, b, 2)
	b.Insert(tag("p"))
	b.Agency("b")
	openAre(t, b, 2, 3)
	activeAre(t, b, 2)
	is(t, "the number of nodes", b.Tree.Len(), 3)
	b = onDocument(t)
	b.Agency("b") // nothing is open
	openAre(t, b)
}

// P7.4: elements with the name in another namespace.
func TestAgencyForeign(t *testing.T) {
	b := inBody(t)
	b.Format(tag("b"))
	b.InsertForeign(tag("b"), api.SVG)
	b.Agency("b") // the current node is not an element b
	openAre(t, b, 2, 3)
	b = inBody(t)
	b.Format(tag("b"))
	b.InsertForeign(tag("mi"), api.MathML) // special, and a boundary
	b.Agency("b")
	openAre(t, b, 2, 3, 4, 5)
	b = inBody(t)
	svg := b.InsertForeign(tag("a"), api.SVG)
	b.Active.Push(api.Entry{Node: svg, Name: "b"})
	b.Insert(tag("p"))
	b.Agency("b")
	dumpIs(t, b, 3, `element 1 "body"`, `  element 2 "a"`, `  element 1 "p"`, `    element 1 "b"`)
}

// P7.4: where the last node goes, with foster parents.
func TestAgencyFoster(t *testing.T) {
	for _, isFoster := range []bool{false, true} {
		b := inBody(t, "table", "tr") // 4, 5
		b.Foster = isFoster
		b.Format(tag("b")) // 6
		b.Insert(tag("p")) // 7
		b.Char('x')
		checkOn(t, b, agency("b"))
		b.Agency("b")
		want := "<table><tr><b></b><p><b>x</b></p></tr></table>"
		if isFoster {
			want = "<b></b><p><b>x</b></p><table><tr></tr></table>"
		}
		is(t, "the markup", markup(b.Tree, 3), want)
	}
	b := inBody(t, "table", "tr", "b", "p") // in the tr, and then foster parents
	b.Active.Push(api.Entry{Node: 6, Name: "b"})
	b.Foster = true
	b.Agency("b")
	is(t, "the markup", markup(b.Tree, 3), "<p><b></b></p><table><tr><b></b></tr></table>")
}

// P7.4: attributes of the token come back, adjusted for HTML, and each entry has
// its own.
func TestAgencyAttributes(t *testing.T) {
	b := inBody(t)
	b.Format(tag("b", attr(api.XLink, "viewbox", "1"), attr(0, "viewbox", "2")))
	b.Format(tag("i", attr(0, "xmlns", "3")))
	b.Insert(tag("p"))
	for range 8 {
		b.Insert(tag("div"))
	}
	b.Agency("b")
	want := []api.Entry{{Node: 15, Name: "i", Attrs: []api.Attr{attr(0, "xmlns", "3")}}, {Node: 23, Name: "b", Attrs: []api.Attr{attr(api.XLink, "viewbox", "1"), attr(0, "viewbox", "2")}}}
	is(t, "Active", b.Snapshot().Active, want)
	is(t, "the attributes of i", nodeOf(b.Tree, 15).Attrs, []api.Attr{attr(0, "xmlns", "3")})
	is(t, "the attributes of b", nodeOf(b.Tree, 23).Attrs, []api.Attr{attr(0, "viewbox", "1")})
	b.Active.Entries[1].Attrs[0].Value = "changed"
	is(t, "the attributes of b", nodeOf(b.Tree, 23).Attrs, []api.Attr{attr(0, "viewbox", "1")})
}

// P7.4: nodes that layer 4 does not let into another one stay where they are.
func TestAgencyInCircles(t *testing.T) {
	b := inBody(t, "p", "b")              // 4, 5
	b.Tree.Element(1, api.HTML, "b", nil) // 6
	b.Open.Items = []stack.Item{element(2, "html"), element(5, "div"), element(6, "b"), element(4, "p")}
	b.Active.Entries = []api.Entry{{Node: 6, Name: "b"}}
	checkOn(t, b, agency("b"))
	b.Agency("b") // the common ancestor is below the furthest block
	is(t, "the markup", markup(b.Tree, 3), "<p><b><b></b></b></p>")
	for _, x := range [][]stack.Item{
		{element(2, "html"), element(3, "body"), element(4, "b"), element(1, "p")},
		{element(2, "html"), element(3, "body"), element(4, "b"), element(0, "p")},
		{element(2, "html"), element(0, "body"), element(4, "b"), element(22, "p")},
		{element(2, "html"), element(99, "body"), element(4, "b"), element(99, "i"), element(19, "p")},
		{element(2, "html"), element(1, "body"), element(4, "b"), element(10, "p")},
		{element(2, "html"), element(22, "body"), element(4, "b"), element(23, "p")},
		{element(2, "html"), element(3, "body"), element(4, "b"), element(3, "i"), element(3, "p")},
		{element(2, "html"), element(3, "body"), element(4, "b"), element(4, "p")},
		{element(4, "html"), element(3, "body"), element(4, "b"), element(5, "i"), element(5, "p"), element(5, "i")},
	} {
		b := inHall(t, x...)
		b.Active.Entries = []api.Entry{{Node: 4, Name: "b"}, {Node: 5, Name: "i"}, {Node: 99, Name: "i"}}
		for _, b.Foster = range []bool{false, true} {
			checkOn(t, b, agency("b"), agency("i"))
		}
	}
}

// P7.4: what is put into a document in the course of the algorithm.
func TestAgencyInDocuments(t *testing.T) {
	b := builder.New(hall(t), 1)
	b.Open.Items = []stack.Item{element(2, "html"), element(22, "body"), element(24, "b"), element(26, "p")}
	b.Active.Entries = []api.Entry{{Node: 24, Name: "b"}}
	b.Agency("b")
	is(t, "the children of the empty document", b.Tree.Kids(22), []int{26})
	is(t, "the children of p", b.Tree.Kids(26), []int{30})
	b.Open.Items = []stack.Item{element(2, "html"), element(22, "body"), element(24, "b"), element(25, "p")}
	b.Active.Entries = []api.Entry{{Node: 24, Name: "b"}}
	b.Agency("b")
	is(t, "the children of the document", b.Tree.Kids(22), []int{26})
	is(t, "the parent of the second element", b.Tree.Parent(25), 0)
	b.Open.Items = []stack.Item{element(2, "html"), element(3, "body"), element(24, "b"), element(22, "p")}
	b.Active.Entries = []api.Entry{{Node: 24, Name: "b"}}
	b.Agency("b") // the furthest block is the document: its element moves
	is(t, "the children of the document", len(b.Tree.Kids(22)), 1)
	is(t, "the child of the new element", b.Tree.Kids(b.Tree.Kids(22)[0]), []int{26})
}
