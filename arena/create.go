package arena

import "thicket/api"

// Document creates a document.
func (a *Arena) Document(quirks bool) int {
	if a == nil {
		return 0
	}
	h := a.add(api.Node{Kind: api.Document, Quirks: quirks})
	a.at(h).Doc = h
	return h
}

// Doctype creates a doctype.
func (a *Arena) Doctype(doc int, name, public, system string) (int, api.Errno) {
	return a.create(doc, api.Node{Kind: api.Doctype, Name: name, Public: public, System: system})
}

// Element creates an element, and the contents of a template.
func (a *Arena) Element(doc int, space api.Space, name string, attrs []api.Attr) (int, api.Errno) {
	if e := a.checkKind(doc, api.Document); e != api.OK {
		return 0, e
	}
	if !isSpace(space) || !haveSpaces(attrs) {
		return 0, api.ErrArg
	}
	n := api.Node{Kind: api.Element, Doc: doc, Space: space, Name: name, Attrs: once(attrs)}
	h := a.add(n)
	if isTemplate(n) {
		inert := a.inertOf(doc)
		contents := a.add(api.Node{Kind: api.Fragment, Doc: inert, Host: h})
		a.at(h).Contents = contents
	}
	return h, api.OK
}

// Text creates text.
func (a *Arena) Text(doc int, data string) (int, api.Errno) {
	return a.create(doc, api.Node{Kind: api.Text, Data: data})
}

// Comment creates a comment.
func (a *Arena) Comment(doc int, data string) (int, api.Errno) {
	return a.create(doc, api.Node{Kind: api.Comment, Data: data})
}

// Fragment creates a fragment.
func (a *Arena) Fragment(doc int) (int, api.Errno) {
	return a.create(doc, api.Node{Kind: api.Fragment})
}

// Inert returns the inert document of a document.
func (a *Arena) Inert(doc int) (int, api.Errno) {
	if e := a.checkKind(doc, api.Document); e != api.OK {
		return 0, e
	}
	return a.inertOf(doc), api.OK
}

// create adds a node for the node document doc.
func (a *Arena) create(doc int, n api.Node) (int, api.Errno) {
	if e := a.checkKind(doc, api.Document); e != api.OK {
		return 0, e
	}
	n.Doc = doc
	return a.add(n), api.OK
}

func (a *Arena) add(n api.Node) int {
	a.nodes = append(a.nodes, node{Node: n})
	return len(a.nodes)
}

// inertOf returns the inert document of a document, and creates it if there is
// none yet.
func (a *Arena) inertOf(doc int) int {
	if a.at(doc).inert == 0 {
		inert := a.Document(false)
		a.at(inert).inert = inert
		a.at(doc).inert = inert
	}
	return a.at(doc).inert
}

func isTemplate(n api.Node) bool {
	return n.Kind == api.Element && n.Space == api.HTML && n.Name == "template"
}
