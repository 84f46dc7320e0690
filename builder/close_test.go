package builder_test

import (
	"slices"
	"testing"

	"thicket/api"
	"thicket/builder"
	"thicket/stack"
)

// openNames are names that the calls of this file tell apart.
func openNames() []string {
	return []string{"p", "li", "rt", "b", "button", "table", "template", "span", "html"}
}

// P7.3: all short stacks of elements.
func TestClosingByRules(t *testing.T) {
	var items []stack.Item
	for i, name := range openNames() {
		items = append(items, element(i+20, name))
	}
	items = append(items, stack.Item{Node: 40, Space: api.SVG, Name: "p"}, stack.Item{Node: 41, Space: api.SVG, Name: "title"}, stack.Item{Node: 42, Space: api.MathML, Name: "template"})
	calls := []call{closeP(), endTemplate(), anyEnd("p"), anyEnd("li"), anyEnd("rt"), anyEnd("b"), anyEnd("span"), anyEnd("title"), anyEnd("html"), anyEnd("")}
	stacks(t, items, 4, func(open []stack.Item) {
		b := inBody(t)
		b.Templates = []api.Mode{api.InTable, api.InRow}
		b.Open.Items = open
		for _, c := range calls {
			copied := builder.Builder(*stateOf(b))
			if !check(t, &copied, stateOf(b), c) {
				t.Errorf("with %+v", open)
			}
		}
	})
}

// openNamed are the names of the open elements.
func openNamed(b *builder.Builder) []string {
	var all []string
	for _, item := range b.Open.Items {
		all = append(all, item.Name)
	}
	return all
}

// P7.3: what CloseP and AnyEnd leave open.
func TestClosing(t *testing.T) {
	closeP := (*builder.Builder).CloseP
	end := func(name string) func(b *builder.Builder) {
		return func(b *builder.Builder) { b.AnyEnd(name) }
	}
	for _, x := range []struct {
		name       string
		open, want []string
		call       func(b *builder.Builder)
	}{
		{"nothing is open", nil, nil, closeP},
		{"a p", []string{"html", "p"}, []string{"html"}, closeP},
		{"no p", []string{"html", "li"}, []string{"html", "li"}, closeP},
		{"a p below others", []string{"html", "p", "div", "b", "li", "rt"}, []string{"html"}, closeP},
		{"the topmost p", []string{"html", "p", "p", "dd"}, []string{"html", "p"}, closeP},
		{"a p below a button", []string{"html", "p", "button", "li"}, []string{"html", "p", "button", "li"}, closeP},
		{"a p below a table", []string{"html", "p", "table"}, []string{"html", "p", "table"}, closeP},
		{"a p below a ul", []string{"html", "p", "ul"}, []string{"html"}, closeP},
		{"a p as the first item", []string{"p", "b"}, []string{"p"}, closeP},
		{"nothing is open", nil, nil, end("b")},
		{"the current node", []string{"html", "b"}, []string{"html"}, end("b")},
		{"an element below others", []string{"html", "b", "i", "span", "rt"}, []string{"html"}, end("b")},
		{"the topmost one", []string{"html", "b", "b", "i"}, []string{"html", "b"}, end("b")},
		{"below a special element", []string{"html", "b", "div", "i"}, []string{"html", "b", "div", "i"}, end("b")},
		{"below a p, which has an implied end", []string{"html", "b", "p"}, []string{"html", "b", "p"}, end("b")},
		{"below elements with implied ends that are not special", []string{"html", "b", "rt", "rb", "option"}, []string{"html"}, end("b")},
		{"a special element by its own name", []string{"html", "div", "i"}, []string{"html"}, end("div")},
		{"an element with an implied end", []string{"html", "rt", "rt"}, []string{"html", "rt"}, end("rt")},
		{"no such element", []string{"span", "b"}, []string{"span", "b"}, end("i")},
		{"the first item", []string{"html", "b", "i"}, []string{"html"}, end("html")},
	} {
		b := onDocument(t)
		for i, name := range x.open {
			b.Open.Push(element(i+2, name))
		}
		x.call(b)
		if got := openNamed(b); !slices.Equal(got, x.want) {
			t.Errorf("%s: %v leaves %v, want %v", x.name, x.open, got, x.want)
		}
	}
}

// P7.3: elements of other namespaces.
func TestClosingForeign(t *testing.T) {
	b := inBody(t)
	b.InsertForeign(tag("p"), api.SVG)
	b.CloseP()
	b.AnyEnd("p")
	openAre(t, b, 2, 3, 4)
	b.Insert(tag("b"))
	b.InsertForeign(tag("b"), api.MathML)
	b.AnyEnd("b")
	openAre(t, b, 2, 3, 4)
	b.Insert(tag("b"))
	b.InsertForeign(tag("title"), api.SVG) // special
	b.AnyEnd("b")
	openAre(t, b, 2, 3, 4, 7, 8)
	b.InsertForeign(tag("title"), api.HTML)
	b.InsertForeign(tag("mi"), api.SVG) // special in MathML alone
	b.AnyEnd("title")
	openAre(t, b, 2, 3, 4, 7, 8)
}

// P7.3: of items with the same node, AnyEnd removes those with an implied end
// first.
func TestAnyEndTwins(t *testing.T) {
	b := onDocument(t)
	b.Open.Items = []stack.Item{element(2, "html"), element(3, "p"), element(5, "b"), element(5, "rt"), element(5, "rb")}
	b.AnyEnd("b")
	openAre(t, b, 2, 3)
	b.Open.Items = []stack.Item{element(2, "html"), element(3, "p"), element(5, "b"), element(5, "i"), element(6, "u")}
	b.AnyEnd("b") // PopNode takes the topmost item with the node
	openAre(t, b, 2, 3, 5)
}

// P7.3: lists of active formatting elements, some of them open.
func TestRebuildByRules(t *testing.T) {
	entries := map[rune]api.Entry{
		'-': {}, 'm': {Name: "marker", Attrs: []api.Attr{attr(0, "x", "1")}}, 'o': {Node: 3, Name: "open"}, 'a': {Node: 50, Name: "a", Attrs: []api.Attr{attr(0, "x", "1"), attr(api.XML, "x", "2")}},
		't': {Node: 51, Name: "template"}, 'b': {Node: -1, Name: "b"}, 'h': {Node: 2, Name: "html"},
	}
	joined(t, []string{"-", "m", "o", "a", "t", "b", "h"}, 4, func(s string) {
		b := inBody(t, "table")
		for i, r := range s {
			e := entries[r]
			if i > 0 && slices.Contains([]rune(s[:i]), r) && e.Node != 0 {
				e.Node += 100 * i // no two entries may have the same node
			}
			b.Active.Entries = append(b.Active.Entries, e)
		}
		b.Foster = len(s)%2 == 1
		checkOn(t, b, rebuild())
		b.Rebuild()
		if n := len(b.Active.Entries); n > 0 && b.Active.Entries[n-1].Node != 0 && b.Open.Index(b.Active.Entries[n-1].Node) == -1 {
			t.Errorf("after Rebuild of %q, the last entry is %+v", s, b.Active.Entries[n-1])
		}
	})
}

// P7.3: elements that are reconstructed.
func TestRebuild(t *testing.T) {
	b := inBody(t)
	b.Rebuild()
	is(t, "the number of nodes", b.Tree.Len(), 3)
	x := attr(0, "x", "1")
	b.Format(tag("b", x))
	b.Format(tag("i"))
	b.Format(tag("u"))
	b.Open.PopNode(5)
	b.Rebuild()
	openAre(t, b, 2, 3, 4, 7, 8)
	activeAre(t, b, 4, 7, 8)
	b.Open.PopNode(4)
	b.Insert(tag("p"))
	b.Rebuild()
	openAre(t, b, 2, 3, 9, 10, 11, 12)
	activeAre(t, b, 10, 11, 12)
	is(t, "the entries", b.Snapshot().Active, []api.Entry{{Node: 10, Name: "b", Attrs: []api.Attr{x}}, {Node: 11, Name: "i"}, {Node: 12, Name: "u"}})
	dumpIs(t, b, 9, `element 1 "p"`, `  element 1 "b" 0:"x"="1"`, `    element 1 "i"`, `      element 1 "u"`)
	b.Open.PopNode(10)
	b.Active.Mark()
	b.Rebuild()
	openAre(t, b, 2, 3, 9)
	b.Format(tag("s"))
	b.Format(tag("tt"))
	b.Open.PopNode(13)
	b.Rebuild() // nothing in front of the marker
	openAre(t, b, 2, 3, 9, 15, 16)
	activeAre(t, b, 10, 11, 12, 0, 15, 16)
	b.Open.PopNode(15)
	b.Active.Clear()
	b.Rebuild()
	openAre(t, b, 2, 3, 9, 17, 18, 19)
	activeAre(t, b, 17, 18, 19)
	b.Open.Remove(18) // only the last entry counts
	b.Rebuild()
	openAre(t, b, 2, 3, 9, 17, 19)
}

// P7.3: the end of a template.
func TestEndTemplate(t *testing.T) {
	for _, x := range []struct {
		name            string
		open, want      []string
		templates, left []api.Mode
		mode            api.Mode
	}{
		{"no template", []string{"html", "body", "p"}, []string{"html", "body", "p"}, []api.Mode{api.InTable}, []api.Mode{api.InTable}, api.Initial},
		{"a template", []string{"html", "body", "template"}, []string{"html", "body"}, []api.Mode{api.InTemplate}, nil, api.InBody},
		{"no mode", []string{"html", "head", "template"}, []string{"html", "head"}, nil, nil, api.InHead},
		{"elements above it", []string{"html", "template", "table", "tbody", "tr", "td", "p"}, []string{"html"}, []api.Mode{api.InRow, api.InBody}, []api.Mode{api.InRow}, api.AfterHead},
		{"templates in templates", []string{"html", "template", "b", "template", "i"}, []string{"html", "template", "b"}, []api.Mode{api.InRow, api.InBody}, []api.Mode{api.InRow}, api.InRow},
		{"the first item", []string{"template", "b"}, []string{"template"}, []api.Mode{api.InRow}, nil, api.InBody},
	} {
		b := onDocument(t)
		b.Head = 99
		b.Templates = x.templates
		for i, name := range x.open {
			b.Open.Push(element(i+2, name))
		}
		b.Active.Push(api.Entry{Node: 50, Name: "b"})
		b.Active.Mark()
		b.Active.Push(api.Entry{Node: 51, Name: "i"})
		b.EndTemplate()
		if got := openNamed(b); !slices.Equal(got, x.want) || !slices.Equal(b.Templates, x.left) || b.Mode != x.mode {
			t.Errorf("%s: open %v, templates %v, mode %d", x.name, got, b.Templates, b.Mode)
		}
		if x.mode == api.Initial {
			activeAre(t, b, 50, 0, 51)
		} else {
			activeAre(t, b, 50)
		}
	}
}

// P7.3: Stop.
func TestStop(t *testing.T) {
	b := full(t)
	b.Stopped = false
	checkOn(t, b, stop())
	b.Stop()
	b.Stop()
	is(t, "Stopped", b.Stopped, true)
}
