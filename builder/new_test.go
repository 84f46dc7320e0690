package builder_test

import (
	"math"
	"reflect"
	"slices"
	"testing"

	"thicket/api"
	"thicket/arena"
	"thicket/builder"
	"thicket/stack"
)

// notDocuments returns an arena with the documents 1, 3 (inert) and 5, and the
// numbers that are no handles of documents.
func notDocuments() (*arena.Arena, []int) {
	a := arena.New()
	a.Document(true)
	a.Element(1, api.HTML, "template", nil)
	a.Document(false)
	a.Text(1, "x")
	a.Comment(1, "x")
	a.Doctype(1, "html", "", "")
	return a, append(strangeInts(), 2, 4, 6, 7, 8, 9)
}

// P7.1: a builder for a document.
func TestNew(t *testing.T) {
	a, others := notDocuments()
	before := a.Copy()
	for _, doc := range []int{1, 3, 5} {
		b := builder.New(a, doc)
		if b == nil {
			t.Fatalf("New(%d) returned nil", doc)
		}
		want := builder.Builder{Tree: a, Doc: doc, Mode: api.Initial, Frameset: true}
		if b.Tree != a || difference((*state)(b), (*state)(&want)) != "" {
			t.Errorf("New(%d) = %+v", doc, *b)
		}
	}
	for _, doc := range others {
		if b := builder.New(a, doc); b != nil {
			t.Errorf("New(%d) = %+v", doc, *b)
		}
		if b := builder.NewFragment(a, doc, api.Context{Space: api.HTML, Name: "p"}); b != nil {
			t.Errorf("NewFragment(%d) = %+v", doc, *b)
		}
	}
	if builder.New(nil, 1) != nil || builder.NewFragment(nil, 1, api.Context{}) != nil || builder.New(&arena.Arena{}, 1) != nil {
		t.Error("without a document")
	}
	if !a.Equal(before) {
		t.Error("the arena has changed")
	}
}

// contexts are contexts of all sorts.
func contexts() []api.Context {
	var all []api.Context
	encoding := []api.Attr{attr(0, "encoding", "text/HTML")}
	for _, space := range slices.Concat(anySpaces(), noSpaces()) {
		for _, name := range []string{
			"", "html", "head", "body", "frameset", "select", "td", "th", "tr", "tbody", "thead", "tfoot", "caption", "colgroup", "col", "table", "template", "p", "HTML", "TEMPLATE",
			"title", "foreignObject", "foreignobject", "desc", "mi", "annotation-xml",
		} {
			all = append(all,
				api.Context{Space: space, Name: name},
				api.Context{Space: space, Name: name, Attrs: encoding, InForm: true},
				api.Context{Space: space, Name: name, Attrs: []api.Attr{attr(api.XML, "encoding", "text/html")}, Quirks: true},
			)
		}
	}
	return all
}

// P7.1: a builder for a fragment, in each context.
func TestNewFragment(t *testing.T) {
	for _, c := range contexts() {
		for _, quirks := range []bool{false, true} {
			a := arena.New()
			a.Document(quirks)
			want := newFragmentByRules(a.Copy(), 1, c)
			b := builder.NewFragment(a, 1, c)
			if b == nil {
				t.Fatalf("NewFragment(1, %+v) returned nil", c)
			}
			if d := difference((*state)(b), want); d != "" {
				t.Errorf("NewFragment(1, %+v): %s is wrong: %+v, want %+v", c, d, *b, *want)
			}
		}
	}
}

// P7.1: what some contexts lead to.
func TestNewFragmentModes(t *testing.T) {
	for _, x := range []struct {
		context api.Context
		mode    api.Mode
		point   bool
	}{
		{api.Context{Space: api.HTML, Name: "td"}, api.InBody, false},
		{api.Context{Space: api.HTML, Name: "th"}, api.InBody, false},
		{api.Context{Space: api.HTML, Name: "select"}, api.InSelect, false},
		{api.Context{Space: api.HTML, Name: "template"}, api.InTemplate, false},
		{api.Context{Space: api.HTML, Name: "tr"}, api.InRow, false},
		{api.Context{Space: api.HTML, Name: "tfoot"}, api.InTableBody, false},
		{api.Context{Space: api.HTML, Name: "caption"}, api.InCaption, false},
		{api.Context{Space: api.HTML, Name: "colgroup"}, api.InColumns, false},
		{api.Context{Space: api.HTML, Name: "table"}, api.InTable, false},
		{api.Context{Space: api.HTML, Name: "head"}, api.InBody, false},
		{api.Context{Space: api.HTML, Name: "body"}, api.InBody, false},
		{api.Context{Space: api.HTML, Name: "frameset"}, api.InFrameset, false},
		{api.Context{Space: api.HTML, Name: "html"}, api.BeforeHead, false},
		{api.Context{Space: api.HTML, Name: "title"}, api.InBody, false},
		{api.Context{Space: api.SVG, Name: "title"}, api.InBody, true},
		{api.Context{Space: api.SVG, Name: "template"}, api.InBody, false},
		{api.Context{Space: api.SVG, Name: "html"}, api.InBody, false},
		{api.Context{Space: api.MathML, Name: "annotation-xml", Attrs: []api.Attr{attr(0, "encoding", "text/html")}}, api.InBody, true},
		{api.Context{Space: api.MathML, Name: "annotation-xml"}, api.InBody, false},
	} {
		a := arena.New()
		b := builder.NewFragment(a, a.Document(false), x.context)
		context := stack.Item{Space: x.context.Space, Name: x.context.Name, Point: x.point}
		if b.Mode != x.mode || b.Context != context || !b.Fragment || b.Form != 0 || b.Current() != element(2, "html") || b.Adjusted() != context {
			t.Errorf("%+v: %+v", x.context, *b)
		}
		if isTemplate := x.context.Space == api.HTML && x.context.Name == "template"; slices.Equal(b.Templates, []api.Mode{api.InTemplate}) != isTemplate {
			t.Errorf("%+v: templates %v", x.context, b.Templates)
		}
		dumpIs(t, b, 1, "document", `  element 1 "html"`)
		if a.Len() != 2 {
			t.Errorf("%+v: %d nodes", x.context, a.Len())
		}
	}
}

// P7.1: documents that have children already.
func TestNewFragmentPut(t *testing.T) {
	a := arena.New()
	a.Document(true)
	a.Doctype(1, "html", "", "")
	a.Comment(1, "c")
	a.Put(1, 2, 0)
	a.Put(1, 3, 0)
	b := builder.NewFragment(a, 1, api.Context{Space: api.HTML, Name: "p", InForm: true})
	dumpIs(t, b, 1, "document quirks", `  doctype "html" "" ""`, `  comment "c"`, `  element 1 "html"`)
	is(t, "Form", b.Form, -1)
	is(t, "the node document", nodeOf(a, 4).Doc, 1)
	b = builder.NewFragment(a, 1, api.Context{Space: api.HTML, Name: "p"})
	openAre(t, b, 5)
	is(t, "the parent of a second html", a.Parent(5), 0)
	is(t, "the children", a.Kids(1), []int{2, 3, 4})
	is(t, "the place", firstOf(b.Place(0)), 5)
	b.Insert(tag("p"))
	is(t, "the parent of p", a.Parent(6), 5)
}

func firstOf(first, _ int) int {
	return first
}

// full returns a builder all of whose fields are set, over a document with html,
// body and p.
func full(t testing.TB) *builder.Builder {
	b := inBody(t, "p")
	b.Active.Push(api.Entry{Node: 9, Name: "a", Attrs: []api.Attr{attr(0, "x", "1")}})
	b.Active.Mark()
	b.Active.Push(api.Entry{Node: 4, Name: "p", Attrs: []api.Attr{attr(0, "y", "2"), attr(api.XML, "z", "3")}})
	b.Mode, b.Original, b.Templates = api.InCell, api.InHead, []api.Mode{api.InTable, api.InRow}
	b.Head, b.Form, b.Fragment, b.Context = 7, 8, true, stack.Item{Space: api.SVG, Name: "desc", Point: true}
	b.Frameset, b.Foster, b.Pending, b.SkipLF, b.Switch, b.Stopped = false, true, "ab", true, api.ScriptState, true
	return b
}

// P7.1: the state as plain data.
func TestSnapshot(t *testing.T) {
	want := api.Snapshot{
		Mode: api.InCell, Original: api.InHead, Templates: []api.Mode{api.InTable, api.InRow}, Open: []int{2, 3, 4},
		Active: []api.Entry{{Node: 9, Name: "a", Attrs: []api.Attr{attr(0, "x", "1")}}, {}, {Node: 4, Name: "p", Attrs: []api.Attr{attr(0, "y", "2"), attr(api.XML, "z", "3")}}},
		Head:   7, Form: 8, Frameset: false, Foster: true, Pending: "ab", SkipLF: true, Switch: api.ScriptState, Stopped: true,
	}
	b := full(t)
	is(t, "Snapshot()", b.Snapshot(), want)
	is(t, "Snapshot() again", b.Snapshot(), want)
	is(t, "Snapshot() of a new builder", onDocument(t).Snapshot(), api.Snapshot{Mode: api.Initial, Frameset: true})
	for i := range 5 { // each of the flags by itself
		b := onDocument(t)
		b.Frameset, b.Foster, b.SkipLF, b.Stopped, b.Fragment = i == 0, i == 1, i == 2, i == 3, i == 4
		is(t, "Snapshot()", b.Snapshot(), api.Snapshot{Mode: api.Initial, Frameset: i == 0, Foster: i == 1, SkipLF: i == 2, Stopped: i == 3})
	}
}

// P7.1: a snapshot and its builder share no memory.
func TestSnapshotShares(t *testing.T) {
	b := full(t)
	want := stateOf(b)
	s := b.Snapshot()
	s.Open[0], s.Templates[0] = 99, api.Initial
	s.Active[0].Attrs[0], s.Active[0].Name, s.Active[1].Node = attr(0, "q", "q"), "q", 99
	s.Active[2].Attrs = append(s.Active[2].Attrs[:1], attr(0, "q", "q"))
	s.Open, s.Templates, s.Active = append(s.Open[:1], 98), append(s.Templates[:1], api.InText), append(s.Active[:1], api.Entry{Node: 97})
	if d := difference((*state)(b), want); d != "" {
		t.Errorf("a changed snapshot changes %s: %+v", d, *b)
	}
	s = b.Snapshot()
	again := b.Snapshot()
	b.Open.Items[0].Node, b.Templates[0], b.Active.Entries[0].Attrs[0].Value, b.Active.Entries[1].Node = 99, api.InText, "q", 99
	b.Agency("p")
	b.EndTemplate()
	b.Format(tag("i"))
	if !reflect.DeepEqual(s, again) {
		t.Errorf("a changed builder changes its snapshot: %+v, want %+v", s, again)
	}
}

// P7.1: the current node, and the adjusted one.
func TestCurrent(t *testing.T) {
	context := stack.Item{Space: api.SVG, Name: "desc", Point: true}
	for n := range 4 {
		for _, isFragment := range []bool{false, true} {
			b := onDocument(t)
			b.Fragment, b.Context = isFragment, context
			var top stack.Item
			for i := range n {
				top = stack.Item{Node: i + 5, Space: api.MathML, Name: "mi", Point: i == 1}
				b.Open.Push(top)
			}
			want := top
			if isFragment && n == 1 {
				want = context
			}
			is(t, "Current()", b.Current(), top)
			is(t, "Adjusted()", b.Adjusted(), want)
			checkOn(t, b, current(), adjusted())
		}
	}
}

// R3: the methods of nil, and without an arena.
func TestNil(t *testing.T) {
	zero := map[string]any{
		"Current()": stack.Item{}, "Adjusted()": stack.Item{}, "Place(0)": [2]int{}, "Place(3)": [2]int{}, insert(tag("p")).name: 0, insertForeign(tag("p"), api.SVG).name: 0, format(tag("p")).name: 0,
		create(tag("p"), api.HTML, 3).name: stack.Item{},
	}
	for _, c := range allCalls() {
		var none *builder.Builder
		if got := c.program(none); !reflect.DeepEqual(got, zero[c.name]) {
			t.Errorf("%s of nil = %+v", c.name, got)
		}
		b := full(t)
		b.Tree = nil
		want := state(*b)
		want.Open.Items, want.Active.Entries, want.Templates = slices.Clone(b.Open.Items), entriesOf(b.Active.Entries), slices.Clone(b.Templates)
		if got := c.program(b); !reflect.DeepEqual(got, zero[c.name]) {
			t.Errorf("%s without an arena = %+v", c.name, got)
		}
		if d := difference((*state)(b), &want); d != "" {
			t.Errorf("%s without an arena changes %s", c.name, d)
		}
	}
	var none *builder.Builder
	is(t, "Snapshot() of nil", none.Snapshot(), api.Snapshot{})
	b := full(t)
	b.Tree = nil
	is(t, "Snapshot() without an arena", b.Snapshot(), api.Snapshot{})
}

// P7.1: a builder of each state, and the calls that return something of it.
func TestReadingChangesNothing(t *testing.T) {
	b := full(t)
	want := stateOf(b)
	b.Snapshot()
	b.Current()
	b.Adjusted()
	for _, target := range append(strangeInts(), 1, 2, 3, 4, 5, math.MaxInt) {
		b.Place(target)
	}
	if d := difference((*state)(b), want); d != "" {
		t.Errorf("%s has changed", d)
	}
}
