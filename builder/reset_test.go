package builder_test

import (
	"testing"

	"thicket/api"
	"thicket/arena"
	"thicket/builder"
	"thicket/stack"
)

// P7.3: all short stacks, in documents and in fragments.
func TestResetByRules(t *testing.T) {
	names := []string{"select", "td", "th", "tr", "tbody", "thead", "tfoot", "caption", "colgroup", "table", "template", "head", "body", "frameset", "html", "p", "TD"}
	var items []stack.Item
	for i, name := range names {
		items = append(items, element(i+2, name))
	}
	items = append(items, stack.Item{Node: 40, Space: api.SVG, Name: "table"}, stack.Item{Node: 41, Space: api.MathML, Name: "select"}, stack.Item{Node: 42, Space: api.Other, Name: "template"}, stack.Item{})
	a := arena.New()
	a.Document(false)
	b := builder.New(a, 1)
	stacks(t, items, 3, func(open []stack.Item) {
		b.Open.Items = open
		for i, context := range []stack.Item{{}, element(0, "select"), element(0, "td"), element(0, "table"), element(0, "template"), {Space: api.SVG, Name: "select"}, element(0, "html")} {
			b.Fragment, b.Context, b.Head = i > 0, context, i%2
			b.Templates = []api.Mode{api.InTable, api.InColumns}[:i%3]
			s := state(*b)
			s.reset()
			b.Mode = 77
			b.Reset()
			if b.Mode != s.Mode {
				t.Errorf("%+v in %+v: the mode is %d, want %d", open, context, b.Mode, s.Mode)
			}
		}
	})
}

// P7.3: the modes of the table.
func TestReset(t *testing.T) {
	for _, x := range []struct {
		open []string
		mode api.Mode
	}{
		{nil, api.InBody},
		{[]string{"p"}, api.InBody},
		{[]string{"p", "span"}, api.InBody},
		{[]string{"select"}, api.InSelect},
		{[]string{"html", "select"}, api.InSelect},
		{[]string{"table", "select"}, api.InSelectInTable},
		{[]string{"html", "table", "td", "select"}, api.InSelectInTable},
		{[]string{"html", "table", "template", "select"}, api.InSelect},
		{[]string{"html", "template", "table", "b", "select"}, api.InSelectInTable},
		{[]string{"template", "select"}, api.InSelect},
		{[]string{"html", "select", "table"}, api.InTable},
		{[]string{"td"}, api.InBody},
		{[]string{"th"}, api.InBody},
		{[]string{"html", "td"}, api.InCell},
		{[]string{"html", "th", "p"}, api.InCell},
		{[]string{"tr"}, api.InRow},
		{[]string{"html", "tr"}, api.InRow},
		{[]string{"tbody"}, api.InTableBody},
		{[]string{"html", "thead"}, api.InTableBody},
		{[]string{"tfoot", "b"}, api.InTableBody},
		{[]string{"caption"}, api.InCaption},
		{[]string{"html", "caption", "b"}, api.InCaption},
		{[]string{"colgroup"}, api.InColumns},
		{[]string{"html", "colgroup"}, api.InColumns},
		{[]string{"html", "col"}, api.BeforeHead},
		{[]string{"table"}, api.InTable},
		{[]string{"html", "table"}, api.InTable},
		{[]string{"template"}, api.InBody},
		{[]string{"html", "template", "b"}, api.InBody},
		{[]string{"head"}, api.InBody},
		{[]string{"html", "head"}, api.InHead},
		{[]string{"body"}, api.InBody},
		{[]string{"html", "body", "p"}, api.InBody},
		{[]string{"frameset"}, api.InFrameset},
		{[]string{"html", "frameset", "frame"}, api.InFrameset},
		{[]string{"html"}, api.BeforeHead},
		{[]string{"html", "b"}, api.BeforeHead},
		{[]string{"body", "html"}, api.BeforeHead},
	} {
		b := onDocument(t)
		for i, name := range x.open {
			b.Open.Push(element(i+2, name))
		}
		checkOn(t, b, reset())
		b.Reset()
		if b.Mode != x.mode {
			t.Errorf("%v: the mode is %d, want %d", x.open, b.Mode, x.mode)
		}
	}
}

// P7.3: what else the mode depends on.
func TestResetState(t *testing.T) {
	b := inBody(t)
	b.Open.Pop()
	for _, b.Head = range []int{1, -1, 99} {
		b.Reset()
		is(t, "the mode, with a head", b.Mode, api.AfterHead)
	}
	b.Insert(tag("template"))
	for _, modes := range [][]api.Mode{{api.InTable}, {api.InTable, api.InRow}, {api.InRow, 0}, {99}} {
		b.Templates = modes
		b.Reset()
		is(t, "the mode, in a template", b.Mode, modes[len(modes)-1])
	}
	b.Open.Items = []stack.Item{{Node: 2, Space: api.SVG, Name: "table"}}
	b.Reset()
	is(t, "the mode, in SVG", b.Mode, api.InBody)
}

// P7.3: in a fragment, the context stands for the first item, but not where a
// select looks for a table.
func TestResetFragment(t *testing.T) {
	for _, x := range []struct {
		context string
		open    []string
		mode    api.Mode
	}{
		{"tr", nil, api.InBody},
		{"tr", []string{"html"}, api.InRow},
		{"tr", []string{"html", "b"}, api.InRow},
		{"tr", []string{"html", "td"}, api.InCell},
		{"td", []string{"html", "b"}, api.InBody},
		{"p", []string{"html"}, api.InBody},
		{"p", []string{"table"}, api.InBody},
		{"p", []string{"html", "html"}, api.BeforeHead},
		{"table", []string{"html", "select"}, api.InSelect},
		{"p", []string{"table", "select"}, api.InSelectInTable},
		{"select", []string{"table"}, api.InSelect},
		{"select", []string{"html", "table", "b"}, api.InTable},
	} {
		b := onDocument(t)
		b.Fragment, b.Context = true, element(0, x.context)
		for i, name := range x.open {
			b.Open.Push(element(i+2, name))
		}
		b.Reset()
		if b.Mode != x.mode {
			t.Errorf("%v in %s: the mode is %d, want %d", x.open, x.context, b.Mode, x.mode)
		}
	}
}
