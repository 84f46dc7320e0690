package builder_test

import (
	"math"
	"slices"

	"thicket/api"
	"thicket/arena"
	"thicket/builder"
	"thicket/stack"
)

// state has the fields of a builder, but not its methods. Those of this file
// follow the chapter's sentences one by one.
type state builder.Builder

// stateOf returns a copy of a builder, together with its arena.
func stateOf(b *builder.Builder) *state {
	s := state(*b)
	s.Tree = b.Tree.Copy()
	s.Templates = slices.Clone(b.Templates)
	s.Open.Items = slices.Clone(b.Open.Items)
	s.Active.Entries = entriesOf(b.Active.Entries)
	return &s
}

// entriesOf returns a copy of entries.
func entriesOf(entries []api.Entry) []api.Entry {
	var all []api.Entry
	for _, e := range entries {
		e.Attrs = slices.Clone(e.Attrs)
		all = append(all, e)
	}
	return all
}

// sameEntry does not tell a nil list from an empty one.
func sameEntry(e, f api.Entry) bool {
	return e.Node == f.Node && e.Name == f.Name && slices.Equal(e.Attrs, f.Attrs)
}

// difference returns what two states do not have in common.
func difference(s, r *state) string {
	switch {
	case s.Doc != r.Doc:
		return "Doc"
	case !slices.Equal(s.Open.Items, r.Open.Items):
		return "Open"
	case !slices.EqualFunc(s.Active.Entries, r.Active.Entries, sameEntry):
		return "Active"
	case s.Mode != r.Mode:
		return "Mode"
	case s.Original != r.Original:
		return "Original"
	case !slices.Equal(s.Templates, r.Templates):
		return "Templates"
	case s.Head != r.Head || s.Form != r.Form:
		return "Head or Form"
	case s.Fragment != r.Fragment || s.Context != r.Context:
		return "Fragment or Context"
	case s.Frameset != r.Frameset || s.Foster != r.Foster || s.Pending != r.Pending || s.SkipLF != r.SkipLF || s.Switch != r.Switch || s.Stopped != r.Stopped:
		return "a field behind Context"
	case !s.Tree.Equal(r.Tree):
		return "Tree"
	}
	return ""
}

// isA reports whether an item is an element with one of the names.
func isA(item stack.Item, names ...string) bool {
	return item.Space == api.HTML && slices.Contains(names, item.Name)
}

func isTemplate(n api.Node) bool {
	return n.Kind == api.Element && n.Space == api.HTML && n.Name == "template"
}

func (s *state) current() stack.Item {
	if len(s.Open.Items) == 0 {
		return stack.Item{}
	}
	return s.Open.Items[len(s.Open.Items)-1]
}

func (s *state) adjusted() stack.Item {
	if s.Fragment && len(s.Open.Items) == 1 {
		return s.Context
	}
	return s.current()
}

// topmost is the index of the topmost element with a name, or -1.
func (s *state) topmost(name string) int {
	for i, item := range slices.Backward(s.Open.Items) {
		if isA(item, name) {
			return i
		}
	}
	return -1
}

func (s *state) place(target int) (parent, before int) {
	parent, before = s.placeOutside(target)
	if n := nodeOf(s.Tree, parent); isTemplate(n) {
		return n.Contents, 0
	}
	return parent, before
}

func (s *state) placeOutside(target int) (parent, before int) {
	open := s.Open.Items
	if target == 0 && len(open) == 0 {
		return s.Doc, 0
	}
	if target == 0 {
		target = s.current().Node
	}
	n := nodeOf(s.Tree, target)
	if !s.Foster || n.Kind != api.Element || n.Space != api.HTML || !slices.Contains([]string{"table", "tbody", "tfoot", "thead", "tr"}, n.Name) {
		return target, 0
	}
	table, template := s.topmost("table"), s.topmost("template")
	switch {
	case template != -1 && (table == -1 || table < template):
		return open[template].Node, 0
	case table == -1 && len(open) == 0:
		return 0, 0
	case table == -1:
		return open[0].Node, 0
	case s.Tree.Parent(open[table].Node) != 0:
		return s.Tree.Parent(open[table].Node), open[table].Node
	case table == 0:
		return open[0].Node, 0
	}
	return open[table-1].Node, 0
}

// put puts a node at a place.
func (s *state) put(node, parent, before int) {
	if nodeOf(s.Tree, node).Kind == api.Element && nodeOf(s.Tree, parent).Kind == api.Document {
		for _, kid := range s.Tree.Kids(parent) {
			if nodeOf(s.Tree, kid).Kind == api.Element {
				return
			}
		}
	}
	s.Tree.Put(parent, node, before)
}

// docFor is the node document of what is created for an intended parent.
func (s *state) docFor(parent int) int {
	n, e := s.Tree.Node(parent)
	if e != api.OK {
		return s.Doc
	}
	if isTemplate(n) {
		return nodeOf(s.Tree, n.Contents).Doc
	}
	return n.Doc
}

func (s *state) create(t api.Token, space api.Space, parent int) stack.Item {
	if space < api.NoSpace || space > api.Other {
		return stack.Item{}
	}
	name, attrs := t.Name, stack.Adjust(space, t.Attrs)
	if space == api.SVG {
		name = stack.SVGName(name)
	}
	h, _ := s.Tree.Element(s.docFor(parent), space, name, attrs)
	return stack.Item{Node: h, Space: space, Name: name, Point: stack.HTMLPoint(space, name, attrs)}
}

func (s *state) insert(t api.Token, space api.Space) int {
	if space < api.NoSpace || space > api.Other {
		return 0
	}
	parent, before := s.place(0)
	item := s.create(t, space, parent)
	s.put(item.Node, parent, before)
	s.Open.Push(item)
	return item.Node
}

func (s *state) format(t api.Token) int {
	h := s.insert(t, api.HTML)
	s.Active.Push(api.Entry{Node: h, Name: t.Name, Attrs: t.Attrs})
	return h
}

func (s *state) char(r rune) {
	if r < 0 || r > 0x10FFFF || r >= 0xD800 && r <= 0xDFFF {
		r = 0xFFFD
	}
	parent, before := s.place(0)
	up := nodeOf(s.Tree, parent)
	if up.Kind != api.Element && up.Kind != api.Fragment {
		return
	}
	last := 0
	for _, kid := range up.Kids {
		if kid == before {
			break
		}
		last = kid
	}
	if n := nodeOf(s.Tree, last); n.Kind == api.Text {
		s.Tree.SetData(last, n.Data+string(r))
		return
	}
	h, _ := s.Tree.Text(up.Doc, string(r))
	s.put(h, parent, before)
}

func (s *state) comment(data string, parent int) {
	before := 0
	if parent == 0 {
		parent, before = s.place(0)
	}
	up := nodeOf(s.Tree, parent)
	if up.Kind == api.Document || up.Kind == api.Fragment || up.Kind == api.Element {
		h, _ := s.Tree.Comment(up.Doc, data)
		s.put(h, parent, before)
	}
}

func (s *state) rawText(t api.Token, c api.State) {
	s.insert(t, api.HTML)
	s.Switch = c
	s.Original = s.Mode
	s.Mode = api.InText
}

func (s *state) closeP() {
	if s.Open.InScope(stack.ButtonScope, "p") {
		s.Open.Implied("p")
		s.Open.PopUntil("p")
	}
}

func (s *state) isOpen(node int) bool {
	return slices.ContainsFunc(s.Open.Items, func(item stack.Item) bool { return item.Node == node })
}

func (s *state) rebuild() {
	entries := s.Active.Entries
	if len(entries) == 0 || entries[len(entries)-1].Node == 0 || s.isOpen(entries[len(entries)-1].Node) {
		return
	}
	lowest := 0
	for i, e := range entries {
		if e.Node == 0 || s.isOpen(e.Node) {
			lowest = i + 1
		}
	}
	for i := lowest; i < len(entries); i++ {
		s.Active.Entries[i].Node = s.insert(tag(entries[i].Name, entries[i].Attrs...), api.HTML)
	}
}

func (s *state) anyEnd(name string) {
	for _, item := range slices.Backward(slices.Clone(s.Open.Items)) {
		if isA(item, name) {
			s.Open.Implied(name)
			s.Open.PopNode(item.Node)
			return
		}
		if stack.Special(item.Space, item.Name) {
			return
		}
	}
}

func (s *state) agency(name string) {
	if isA(s.current(), name) && !s.hasEntry(s.current().Node) {
		s.Open.Pop()
		return
	}
	for n := 0; n < 8; n++ {
		if !s.agencyRound(name) {
			return
		}
	}
}

func (s *state) hasEntry(node int) bool {
	return s.Active.Index(node) != -1
}

// bookmark stands for an entry, so that it stays between the others by itself.
var bookmark = api.Entry{Node: math.MinInt + 7, Name: "the bookmark"}

// agencyRound follows the steps 3 to 11, and reports whether all were done.
func (s *state) agencyRound(name string) bool {
	found := s.Active.Find(name)
	if found == -1 {
		s.anyEnd(name)
		return false
	}
	entry := s.Active.Entries[found]
	formatting := entry.Node
	if !s.isOpen(formatting) {
		s.Active.Remove(formatting)
		return false
	}
	if !s.Open.NodeInScope(stack.DefaultScope, formatting) || s.Open.Index(formatting) == 0 {
		return false
	}
	if s.Open.Furthest(formatting) == -1 {
		s.Open.PopNode(formatting)
		s.Active.Remove(formatting)
		return false
	}
	low, high := s.Open.Index(formatting), s.Open.Furthest(formatting)
	furthest, common := s.Open.Items[high], s.Open.Items[low-1]
	s.Active.Insert(bookmark, found)
	last := s.agencyInner(slices.Clone(s.Open.Items[low+1:high]), furthest.Node, common.Node)
	parent, before := s.place(common.Node)
	s.put(last, parent, before)
	item := s.create(tag(entry.Name, entry.Attrs...), api.HTML, furthest.Node)
	for _, kid := range s.Tree.Kids(furthest.Node) {
		s.put(kid, item.Node, 0)
	}
	s.put(item.Node, furthest.Node, 0)
	s.Active.Remove(formatting)
	s.Active.Replace(bookmark.Node, api.Entry{Node: item.Node, Name: entry.Name, Attrs: entry.Attrs})
	s.Open.Remove(formatting)
	s.Open.Insert(item, s.Open.Index(furthest.Node)+1)
	return true
}

// agencyInner follows the step 7, and returns the last node.
func (s *state) agencyInner(between []stack.Item, furthest, common int) int {
	last, number := furthest, 0
	for _, item := range slices.Backward(between) {
		number++
		if number > 3 {
			s.Active.Remove(item.Node)
		}
		if !s.hasEntry(item.Node) {
			s.Open.Remove(item.Node)
			continue
		}
		entry := s.Active.Entries[s.Active.Index(item.Node)]
		made := s.create(tag(entry.Name, entry.Attrs...), api.HTML, common)
		s.Open.Replace(item.Node, made)
		entry.Node = made.Node
		s.Active.Replace(item.Node, entry)
		if last == furthest {
			s.Active.Remove(bookmark.Node)
			s.Active.Insert(bookmark, s.Active.Index(made.Node)+1)
		}
		s.put(last, made.Node, 0)
		last = made.Node
	}
	return last
}

func (s *state) reset() {
	for i, item := range slices.Backward(s.Open.Items) {
		if i == 0 && s.Fragment {
			item = s.Context
		}
		if mode, applies := s.rowFor(item, i); applies {
			s.Mode = mode
			return
		}
	}
	s.Mode = api.InBody
}

// rowFor returns the mode of the first row of the table that applies.
func (s *state) rowFor(item stack.Item, i int) (api.Mode, bool) {
	switch isFirst := i == 0; {
	case isA(item, "select") && !isFirst && s.tableBelow(i):
		return api.InSelectInTable, true
	case isA(item, "select"):
		return api.InSelect, true
	case isA(item, "td", "th") && !isFirst:
		return api.InCell, true
	case isA(item, "tr"):
		return api.InRow, true
	case isA(item, "tbody", "thead", "tfoot"):
		return api.InTableBody, true
	case isA(item, "caption"):
		return api.InCaption, true
	case isA(item, "colgroup"):
		return api.InColumns, true
	case isA(item, "table"):
		return api.InTable, true
	case isA(item, "template") && len(s.Templates) == 0:
		return api.InBody, true
	case isA(item, "template"):
		return s.Templates[len(s.Templates)-1], true
	case isA(item, "head") && !isFirst:
		return api.InHead, true
	case isA(item, "body"):
		return api.InBody, true
	case isA(item, "frameset"):
		return api.InFrameset, true
	case isA(item, "html") && s.Head == 0:
		return api.BeforeHead, true
	case isA(item, "html"):
		return api.AfterHead, true
	case isFirst:
		return api.InBody, true
	}
	return 0, false
}

// tableBelow reports whether a table comes before any template, going down.
func (s *state) tableBelow(i int) bool {
	for _, item := range slices.Backward(s.Open.Items[:i]) {
		if isA(item, "table", "template") {
			return item.Name == "table"
		}
	}
	return false
}

func (s *state) merge(t api.Token, node int) {
	n := nodeOf(s.Tree, node)
	if n.Kind != api.Element {
		return
	}
	for _, x := range t.Attrs {
		if !slices.ContainsFunc(n.Attrs, func(y api.Attr) bool { return y.Space == api.NoSpace && y.Name == x.Name }) {
			n.Attrs = append(n.Attrs, attr(api.NoSpace, x.Name, x.Value))
		}
	}
	s.Tree.SetAttrs(node, n.Attrs)
}

func (s *state) endTemplate() {
	if s.topmost("template") == -1 {
		return
	}
	s.Open.Thorough()
	s.Open.PopUntil("template")
	s.Active.Clear()
	if len(s.Templates) > 0 {
		s.Templates = s.Templates[:len(s.Templates)-1]
	}
	s.reset()
}

func newFragmentByRules(a *arena.Arena, doc int, c api.Context) *state {
	if nodeOf(a, doc).Kind != api.Document {
		return nil
	}
	s := &state{Tree: a, Doc: doc, Mode: api.Initial, Frameset: true}
	html, _ := a.Element(doc, api.HTML, "html", nil)
	s.put(html, doc, 0)
	s.Open.Push(element(html, "html"))
	s.Fragment = true
	s.Context = stack.Item{Space: c.Space, Name: c.Name, Point: stack.HTMLPoint(c.Space, c.Name, c.Attrs)}
	if c.Space == api.HTML && c.Name == "template" {
		s.Templates = []api.Mode{api.InTemplate}
	}
	s.reset()
	if c.InForm {
		s.Form = -1
	}
	return s
}
