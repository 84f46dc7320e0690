package arena_test

import (
	"maps"
	"slices"
	"strconv"

	"thicket/api"
	"thicket/arena"
)

// changer has the calls that change an arena.
type changer interface {
	Document(quirks bool) int
	Doctype(doc int, name, public, system string) (int, api.Errno)
	Element(doc int, space api.Space, name string, attrs []api.Attr) (int, api.Errno)
	Text(doc int, data string) (int, api.Errno)
	Comment(doc int, data string) (int, api.Errno)
	Fragment(doc int) (int, api.Errno)
	Inert(doc int) (int, api.Errno)
	Put(parent, node, before int) api.Errno
	Cut(node int) api.Errno
	SetData(h int, data string) api.Errno
	SetAttrs(h int, attrs []api.Attr) api.Errno
	SetQuirks(h int, quirks bool) api.Errno
	SetDoc(h, doc int) api.Errno
}

var (
	_ changer = &arena.Arena{}
	_ changer = &byRules{}
)

// byRules is an arena that follows the chapter's rules word for word. It says
// nothing about nil arenas.
type byRules struct {
	nodes []api.Node
	inert map[int]int
}

func newByRules() *byRules {
	return &byRules{inert: map[int]int{}}
}

func (r *byRules) copied() *byRules {
	c := &byRules{inert: maps.Clone(r.inert)}
	for _, n := range r.nodes {
		n.Kids, n.Attrs = slices.Clone(n.Kids), slices.Clone(n.Attrs)
		c.nodes = append(c.nodes, n)
	}
	return c
}

func (r *byRules) exists(h int) bool {
	return h >= 1 && h <= len(r.nodes)
}

func (r *byRules) node(h int) *api.Node {
	return &r.nodes[h-1]
}

func isOneOf(space api.Space) bool {
	switch space {
	case api.NoSpace, api.HTML, api.SVG, api.MathML, api.XLink, api.XML, api.XMLNS, api.Other:
		return true
	}
	return false
}

func (r *byRules) docError(doc int) api.Errno {
	switch {
	case !r.exists(doc):
		return api.ErrHandle
	case r.node(doc).Kind != api.Document:
		return api.ErrKind
	}
	return api.OK
}

func (r *byRules) add(doc int, n api.Node) (int, api.Errno) {
	if e := r.docError(doc); e != api.OK {
		return 0, e
	}
	n.Doc = doc
	r.nodes = append(r.nodes, n)
	return len(r.nodes), api.OK
}

func (r *byRules) Document(quirks bool) int {
	h := len(r.nodes) + 1
	r.nodes = append(r.nodes, api.Node{Kind: api.Document, Doc: h, Quirks: quirks})
	return h
}

func (r *byRules) Doctype(doc int, name, public, system string) (int, api.Errno) {
	return r.add(doc, api.Node{Kind: api.Doctype, Name: name, Public: public, System: system})
}

func (r *byRules) Text(doc int, data string) (int, api.Errno) {
	return r.add(doc, api.Node{Kind: api.Text, Data: data})
}

func (r *byRules) Comment(doc int, data string) (int, api.Errno) {
	return r.add(doc, api.Node{Kind: api.Comment, Data: data})
}

func (r *byRules) Fragment(doc int) (int, api.Errno) {
	return r.add(doc, api.Node{Kind: api.Fragment})
}

func (r *byRules) Inert(doc int) (int, api.Errno) {
	if e := r.docError(doc); e != api.OK {
		return 0, e
	}
	if r.inert[doc] == 0 {
		inert := r.Document(false)
		r.inert[doc], r.inert[inert] = inert, inert
	}
	return r.inert[doc], api.OK
}

func (r *byRules) Element(doc int, space api.Space, name string, attrs []api.Attr) (int, api.Errno) {
	if e := r.docError(doc); e != api.OK {
		return 0, e
	}
	if !isOneOf(space) || !allOneOf(attrs) {
		return 0, api.ErrArg
	}
	h, _ := r.add(doc, api.Node{Kind: api.Element, Space: space, Name: name, Attrs: firstOnes(attrs)})
	if space == api.HTML && name == "template" {
		inert, _ := r.Inert(doc)
		contents, _ := r.add(inert, api.Node{Kind: api.Fragment, Host: h})
		r.node(h).Contents = contents
	}
	return h, api.OK
}

func allOneOf(attrs []api.Attr) bool {
	return !slices.ContainsFunc(attrs, func(attr api.Attr) bool { return !isOneOf(attr.Space) })
}

// firstOnes drops each attribute that has a like one before it.
func firstOnes(attrs []api.Attr) []api.Attr {
	var first []api.Attr
	for _, attr := range attrs {
		if !slices.ContainsFunc(first, func(f api.Attr) bool { return f.Space == attr.Space && f.Name == attr.Name }) {
			first = append(first, attr)
		}
	}
	return first
}

func (r *byRules) Put(parent, node, before int) api.Errno {
	if !r.exists(parent) || !r.exists(node) || before != 0 && !r.exists(before) {
		return api.ErrHandle
	}
	switch r.node(parent).Kind {
	case api.Doctype, api.Text, api.Comment:
		return api.ErrHierarchy
	}
	switch r.node(node).Kind {
	case api.Document, api.Fragment:
		return api.ErrHierarchy
	}
	if r.contains(node, parent) {
		return api.ErrHierarchy
	}
	if before != 0 && (before == node || !slices.Contains(r.node(parent).Kids, before)) {
		return api.ErrNotFound
	}
	r.Cut(node)
	var kids []int
	for _, kid := range r.node(parent).Kids {
		if kid == before {
			kids = append(kids, node)
		}
		kids = append(kids, kid)
	}
	if before == 0 {
		kids = append(kids, node)
	}
	r.node(parent).Kids, r.node(node).Parent = kids, parent
	return api.OK
}

func (r *byRules) Cut(node int) api.Errno {
	if !r.exists(node) {
		return api.ErrHandle
	}
	if parent := r.node(node).Parent; parent != 0 {
		var kids []int
		for _, kid := range r.node(parent).Kids {
			if kid != node {
				kids = append(kids, kid)
			}
		}
		r.node(parent).Kids, r.node(node).Parent = kids, 0
	}
	return api.OK
}

func (r *byRules) SetData(h int, data string) api.Errno {
	switch {
	case !r.exists(h):
		return api.ErrHandle
	case r.node(h).Kind != api.Text && r.node(h).Kind != api.Comment:
		return api.ErrKind
	}
	r.node(h).Data = data
	return api.OK
}

func (r *byRules) SetAttrs(h int, attrs []api.Attr) api.Errno {
	switch {
	case !r.exists(h):
		return api.ErrHandle
	case r.node(h).Kind != api.Element:
		return api.ErrKind
	case !allOneOf(attrs):
		return api.ErrArg
	}
	r.node(h).Attrs = firstOnes(attrs)
	return api.OK
}

func (r *byRules) SetQuirks(h int, quirks bool) api.Errno {
	if e := r.docError(h); e != api.OK {
		return e
	}
	r.node(h).Quirks = quirks
	return api.OK
}

func (r *byRules) SetDoc(h, doc int) api.Errno {
	switch {
	case !r.exists(h) || !r.exists(doc):
		return api.ErrHandle
	case r.node(h).Kind == api.Document || r.node(doc).Kind != api.Document:
		return api.ErrKind
	}
	r.node(h).Doc = doc
	return api.OK
}

func (r *byRules) contains(up, h int) bool {
	if !r.exists(up) || !r.exists(h) {
		return false
	}
	n := r.node(h)
	return up == h || r.contains(up, n.Parent) || n.Parent == 0 && r.contains(up, n.Host)
}

func (r *byRules) root(h int) int {
	if !r.exists(h) {
		return 0
	}
	if parent := r.node(h).Parent; parent != 0 {
		return r.root(parent)
	}
	return h
}

func (r *byRules) index(h int) int {
	if !r.exists(h) || r.node(h).Parent == 0 {
		return -1
	}
	return slices.Index(r.node(r.node(h).Parent).Kids, h)
}

// walk calls visit for the preorder of a node, with the steps down to each.
func (r *byRules) walk(h, depth int, visit func(h, depth int)) {
	if !r.exists(h) {
		return
	}
	visit(h, depth)
	r.walk(r.node(h).Contents, depth+1, visit)
	for _, kid := range r.node(h).Kids {
		r.walk(kid, depth+1, visit)
	}
}

func (r *byRules) same(h int, s *byRules, k int) bool {
	if !r.exists(h) || !s.exists(k) {
		return false
	}
	n, m := r.node(h), s.node(k)
	if n.Kind != m.Kind || n.Space != m.Space || n.Name != m.Name || !slices.Equal(n.Attrs, m.Attrs) || n.Data != m.Data ||
		n.Public != m.Public || n.System != m.System || n.Quirks != m.Quirks || len(n.Kids) != len(m.Kids) || (n.Contents == 0) != (m.Contents == 0) {
		return false
	}
	for i := range n.Kids {
		if !r.same(n.Kids[i], s, m.Kids[i]) {
			return false
		}
	}
	return n.Contents == 0 || r.same(n.Contents, s, m.Contents)
}

func (r *byRules) dump(h int) string {
	text := ""
	r.walk(h, 0, func(h, depth int) {
		for range depth {
			text += "  "
		}
		text += r.line(*r.node(h)) + "\n"
	})
	return text
}

func (r *byRules) line(n api.Node) string {
	switch n.Kind {
	case api.Document:
		return map[bool]string{false: "document", true: "document quirks"}[n.Quirks]
	case api.Fragment:
		return map[bool]string{false: "contents", true: "fragment"}[n.Host == 0]
	case api.Doctype:
		return "doctype " + inQuotes(n.Name) + " " + inQuotes(n.Public) + " " + inQuotes(n.System)
	case api.Text:
		return "text " + inQuotes(n.Data)
	case api.Comment:
		return "comment " + inQuotes(n.Data)
	}
	line := "element " + strconv.Itoa(int(n.Space)) + " " + inQuotes(n.Name)
	for _, attr := range n.Attrs {
		line += " " + strconv.Itoa(int(attr.Space)) + ":" + inQuotes(attr.Name) + "=" + inQuotes(attr.Value)
	}
	return line
}

func inQuotes(s string) string {
	quoted := []byte{'"'}
	for _, b := range []byte(s) {
		switch b {
		case '"', '\\':
			quoted = append(quoted, '\\', b)
		case '\n':
			quoted = append(quoted, '\\', 'n')
		default:
			quoted = append(quoted, b)
		}
	}
	return string(append(quoted, '"'))
}
