package dom_test

import (
	"slices"

	"thicket/api"
	"thicket/arena"
	"thicket/text"
)

// The functions of this file follow the chapter's sentences one by one, with
// little regard for time and depth.

func handleError(a *arena.Arena, handles ...int) api.Errno {
	for _, h := range handles {
		if h <= 0 || h > a.Len() {
			return api.ErrHandle
		}
	}
	return api.OK
}

// orParent is a handle that is none exactly if the child is neither a handle
// nor 0.
func orParent(child, parent int) int {
	if child == 0 {
		return parent
	}
	return child
}

func kindOf(a *arena.Arena, h int) api.Kind {
	return nodeOf(a, h).Kind
}

func holds(a *arena.Arena, up, h int) bool {
	if h == 0 || up == h {
		return up == h
	}
	if n := nodeOf(a, h); n.Parent != 0 {
		return holds(a, up, n.Parent)
	}
	return holds(a, up, nodeOf(a, h).Host)
}

// nodesBelow are the children and the nodes below them.
func nodesBelow(a *arena.Arena, h int) []int {
	var all []int
	for _, kid := range a.Kids(h) {
		all = append(append(all, kid), nodesBelow(a, kid)...)
	}
	return all
}

func ofKind(a *arena.Arena, handles []int, k api.Kind) []int {
	var all []int
	for _, h := range handles {
		if kindOf(a, h) == k {
			all = append(all, h)
		}
	}
	return all
}

// insertError is the error of the first one of the six conditions that applies.
func insertError(a *arena.Arena, parent, node, child int, replace bool) api.Errno {
	up, n := nodeOf(a, parent), nodeOf(a, node)
	switch {
	case up.Kind != api.Document && up.Kind != api.Fragment && up.Kind != api.Element:
		return api.ErrHierarchy
	case holds(a, node, parent):
		return api.ErrHierarchy
	case (replace || child != 0) && !slices.Contains(up.Kids, child):
		return api.ErrNotFound
	case n.Kind == api.Document:
		return api.ErrHierarchy
	case n.Kind == api.Text && up.Kind == api.Document:
		return api.ErrHierarchy
	case n.Kind == api.Doctype && up.Kind != api.Document:
		return api.ErrHierarchy
	case up.Kind == api.Document && sixthApplies(a, up.Kids, n, child, replace):
		return api.ErrHierarchy
	}
	return api.OK
}

func sixthApplies(a *arena.Arena, kids []int, n api.Node, child int, replace bool) bool {
	forElement, forDoctype := elementForbidden, doctypeForbidden
	if replace {
		forElement, forDoctype = elementNoReplacement, doctypeNoReplacement
	}
	switch n.Kind {
	case api.Fragment:
		elements, texts := ofKind(a, n.Kids, api.Element), ofKind(a, n.Kids, api.Text)
		return len(elements) >= 2 || len(texts) > 0 || len(elements) == 1 && forElement(a, kids, child)
	case api.Element:
		return forElement(a, kids, child)
	case api.Doctype:
		return forDoctype(a, kids, child)
	}
	return false
}

func elementForbidden(a *arena.Arena, kids []int, child int) bool {
	return len(ofKind(a, kids, api.Element)) > 0 || child != 0 && kindOf(a, child) == api.Doctype || child != 0 && followedBy(a, kids, child, api.Doctype)
}

func doctypeForbidden(a *arena.Arena, kids []int, child int) bool {
	if len(ofKind(a, kids, api.Doctype)) > 0 {
		return true
	}
	if child == 0 {
		return len(ofKind(a, kids, api.Element)) > 0
	}
	return precededBy(a, kids, child, api.Element)
}

func elementNoReplacement(a *arena.Arena, kids []int, child int) bool {
	return hasOther(a, kids, child, api.Element) || followedBy(a, kids, child, api.Doctype)
}

func doctypeNoReplacement(a *arena.Arena, kids []int, child int) bool {
	return hasOther(a, kids, child, api.Doctype) || precededBy(a, kids, child, api.Element)
}

func hasOther(a *arena.Arena, kids []int, child int, k api.Kind) bool {
	return slices.ContainsFunc(ofKind(a, kids, k), func(h int) bool { return h != child })
}

func followedBy(a *arena.Arena, kids []int, child int, k api.Kind) bool {
	return len(ofKind(a, kids[slices.Index(kids, child)+1:], k)) > 0
}

func precededBy(a *arena.Arena, kids []int, child int, k api.Kind) bool {
	return len(ofKind(a, kids[:slices.Index(kids, child)], k)) > 0
}

// after is the child that follows a node, or 0.
func after(a *arena.Arena, h int) int {
	kids := append(a.Kids(a.Parent(h)), 0)
	return kids[slices.Index(kids, h)+1]
}

func validateByRules(a *arena.Arena, parent, node, child int) api.Errno {
	if e := handleError(a, parent, node, orParent(child, parent)); e != api.OK {
		return e
	}
	return insertError(a, parent, node, child, false)
}

func insertByRules(a *arena.Arena, parent, node, child int) api.Errno {
	if e := validateByRules(a, parent, node, child); e != api.OK {
		return e
	}
	if child == node {
		child = after(a, node)
	}
	insertNodes(a, parent, node, child)
	return api.OK
}

func insertNodes(a *arena.Arena, parent, node, child int) {
	nodes := []int{node}
	if kindOf(a, node) == api.Fragment {
		nodes = a.Kids(node)
	}
	for _, h := range nodes {
		adoptNode(a, h, nodeOf(a, parent).Doc)
		a.Put(parent, h, child)
	}
}

func adoptNode(a *arena.Arena, h, doc int) {
	a.Cut(h)
	if nodeOf(a, h).Doc == doc {
		return
	}
	whole := append([]int{h}, nodesBelow(a, h)...)
	for _, k := range whole {
		a.SetDoc(k, doc)
	}
	for _, k := range whole {
		if contents := nodeOf(a, k).Contents; contents != 0 {
			inert, _ := a.Inert(doc)
			adoptNode(a, contents, inert)
		}
	}
}

func replaceByRules(a *arena.Arena, parent, node, child int) api.Errno {
	if e := handleError(a, parent, node, child); e != api.OK {
		return e
	}
	if e := insertError(a, parent, node, child, true); e != api.OK {
		return e
	}
	before := after(a, child)
	if before == node {
		before = after(a, node)
	}
	a.Cut(child)
	insertNodes(a, parent, node, before)
	return api.OK
}

func removeByRules(a *arena.Arena, parent, child int) api.Errno {
	if e := handleError(a, parent, child); e != api.OK {
		return e
	}
	if !slices.Contains(a.Kids(parent), child) {
		return api.ErrNotFound
	}
	return a.Cut(child)
}

func replaceAllByRules(a *arena.Arena, parent, node int) api.Errno {
	if e := handleError(a, parent, orParent(node, parent)); e != api.OK {
		return e
	}
	if k := kindOf(a, parent); k != api.Element && k != api.Fragment {
		return api.ErrKind
	}
	if node != 0 && (kindOf(a, node) != api.Fragment || holds(a, node, parent)) {
		return api.ErrHierarchy
	}
	for len(a.Kids(parent)) > 0 {
		a.Cut(a.Kids(parent)[0])
	}
	if node != 0 {
		insertNodes(a, parent, node, 0)
	}
	return api.OK
}

func adoptByRules(a *arena.Arena, node, doc int) api.Errno {
	if e := handleError(a, node, doc); e != api.OK {
		return e
	}
	if kindOf(a, doc) != api.Document || kindOf(a, node) == api.Document || nodeOf(a, node).Host != 0 {
		return api.ErrKind
	}
	adoptNode(a, node, doc)
	return api.OK
}

func createElementByRules(a *arena.Arena, doc int, name string) (int, api.Errno) {
	switch {
	case handleError(a, doc) != api.OK:
		return 0, api.ErrHandle
	case kindOf(a, doc) != api.Document:
		return 0, api.ErrKind
	case !text.ValidElement(name):
		return 0, api.ErrChar
	}
	return a.Element(doc, api.HTML, lowered(name), nil)
}

func lowered(name string) string {
	b := []byte(name)
	for i := range b {
		if b[i] >= 'A' && b[i] <= 'Z' {
			b[i] += 'a' - 'A'
		}
	}
	return string(b)
}

// attributeError is the error of the functions for attributes, before that for
// the name.
func attributeError(a *arena.Arena, el int, space api.Space) api.Errno {
	switch {
	case handleError(a, el) != api.OK:
		return api.ErrHandle
	case kindOf(a, el) != api.Element:
		return api.ErrKind
	case !slices.Contains([]api.Space{api.NoSpace, api.HTML, api.SVG, api.MathML, api.XLink, api.XML, api.XMLNS, api.Other}, space):
		return api.ErrArg
	}
	return api.OK
}

// attributesBut returns the attributes before and after the one that is looked
// for, and the one, or no one.
func attributesBut(n api.Node, space api.Space, name string) (before, one, after []api.Attr) {
	if n.Space == api.HTML && space == api.NoSpace {
		name = lowered(name)
	}
	for i, x := range n.Attrs {
		if x.Space == space && x.Name == name {
			return n.Attrs[:i], []api.Attr{x}, n.Attrs[i+1:]
		}
	}
	return n.Attrs, nil, nil
}

func attributeByRules(a *arena.Arena, el int, space api.Space, name string) (string, bool, api.Errno) {
	if e := attributeError(a, el, space); e != api.OK {
		return "", false, e
	}
	if _, one, _ := attributesBut(nodeOf(a, el), space, name); len(one) > 0 {
		return one[0].Value, true, api.OK
	}
	return "", false, api.OK
}

func setAttributeByRules(a *arena.Arena, el int, space api.Space, name, value string) api.Errno {
	if e := attributeError(a, el, space); e != api.OK {
		return e
	}
	if !text.ValidAttribute(name) {
		return api.ErrChar
	}
	n := nodeOf(a, el)
	before, _, after := attributesBut(n, space, name)
	if n.Space == api.HTML && space == api.NoSpace {
		name = lowered(name)
	}
	return a.SetAttrs(el, slices.Concat(before, []api.Attr{attr(space, name, value)}, after))
}

func removeAttributeByRules(a *arena.Arena, el int, space api.Space, name string) (bool, api.Errno) {
	if e := attributeError(a, el, space); e != api.OK {
		return false, e
	}
	before, one, after := attributesBut(nodeOf(a, el), space, name)
	a.SetAttrs(el, slices.Concat(before, after))
	return len(one) > 0, api.OK
}

func cloneByRules(a *arena.Arena, h int, deep bool) (int, api.Errno) {
	if e := handleError(a, h); e != api.OK {
		return 0, e
	}
	return copyNode(a, nodeOf(a, h).Doc, a, h, deep), api.OK
}

func importByRules(to *arena.Arena, doc int, from *arena.Arena, h int) (int, api.Errno) {
	switch {
	case to == nil || from == nil:
		return 0, api.ErrNil
	case handleError(to, doc) != api.OK || handleError(from, h) != api.OK:
		return 0, api.ErrHandle
	case kindOf(to, doc) != api.Document || kindOf(from, h) == api.Document:
		return 0, api.ErrKind
	}
	return copyNode(to, doc, from, h, true), api.OK
}

func copyNode(to *arena.Arena, doc int, from *arena.Arena, h int, deep bool) int {
	n := nodeOf(from, h)
	k := copyAlone(to, doc, n)
	if n.Kind == api.Document {
		doc = k
	}
	if deep {
		if contents := nodeOf(to, k).Contents; contents != 0 {
			inert, _ := to.Inert(doc)
			copyKids(to, inert, contents, from, n.Contents)
		}
		copyKids(to, doc, k, from, h)
	}
	return k
}

func copyKids(to *arena.Arena, doc, parent int, from *arena.Arena, h int) {
	for _, kid := range from.Kids(h) {
		to.Put(parent, copyNode(to, doc, from, kid, true), 0)
	}
}

func copyAlone(to *arena.Arena, doc int, n api.Node) (h int) {
	switch n.Kind {
	case api.Document:
		h = to.Document(n.Quirks)
	case api.Fragment:
		h, _ = to.Fragment(doc)
	case api.Doctype:
		h, _ = to.Doctype(doc, n.Name, n.Public, n.System)
	case api.Element:
		h, _ = to.Element(doc, n.Space, n.Name, n.Attrs)
	case api.Text:
		h, _ = to.Text(doc, n.Data)
	case api.Comment:
		h, _ = to.Comment(doc, n.Data)
	}
	return h
}

func textContentByRules(a *arena.Arena, h int) (string, api.Errno) {
	if e := handleError(a, h); e != api.OK {
		return "", e
	}
	switch n := nodeOf(a, h); n.Kind {
	case api.Text, api.Comment:
		return n.Data, api.OK
	case api.Document, api.Doctype:
		return "", api.OK
	}
	all := ""
	for _, k := range ofKind(a, nodesBelow(a, h), api.Text) {
		all += nodeOf(a, k).Data
	}
	return all, api.OK
}

func setTextContentByRules(a *arena.Arena, h int, s string) api.Errno {
	if e := handleError(a, h); e != api.OK {
		return e
	}
	switch kindOf(a, h) {
	case api.Text, api.Comment:
		return a.SetData(h, s)
	case api.Document, api.Doctype:
		return api.OK
	}
	for len(a.Kids(h)) > 0 {
		a.Cut(a.Kids(h)[0])
	}
	if s != "" {
		t, _ := a.Text(nodeOf(a, h).Doc, s)
		a.Put(h, t, 0)
	}
	return api.OK
}

func normalizeByRules(a *arena.Arena, h int) api.Errno {
	if e := handleError(a, h); e != api.OK {
		return e
	}
	for i := 0; i < len(a.Kids(h)); {
		i += joinAt(a, a.Kids(h), i)
	}
	for _, kid := range a.Kids(h) {
		normalizeByRules(a, kid)
	}
	return api.OK
}

// joinAt joins the texts from an index on, and returns how many nodes stand
// there now.
func joinAt(a *arena.Arena, kids []int, from int) int {
	to := from
	for to < len(kids) && kindOf(a, kids[to]) == api.Text {
		to++
	}
	if to == from {
		return 1
	}
	all, kept := "", 0
	for _, h := range kids[from:to] {
		all += nodeOf(a, h).Data
		if all != "" && kept == 0 {
			kept = h
			continue
		}
		a.Cut(h)
	}
	if kept == 0 {
		return 0
	}
	a.SetData(kept, all)
	return 1
}

func splitByRules(a *arena.Arena, h, at int) (int, api.Errno) {
	n := nodeOf(a, h)
	switch {
	case handleError(a, h) != api.OK:
		return 0, api.ErrHandle
	case n.Kind != api.Text:
		return 0, api.ErrKind
	case at < 0 || at > len(n.Data):
		return 0, api.ErrArg
	}
	k, _ := a.Text(n.Doc, n.Data[at:])
	a.SetData(h, n.Data[:at])
	if n.Parent != 0 {
		a.Put(n.Parent, k, after(a, h))
	}
	return k, api.OK
}

func byNameByRules(a *arena.Arena, h int, name string) []int {
	var all []int
	for _, k := range ofKind(a, nodesBelow(a, h), api.Element) {
		n := nodeOf(a, k)
		if name == "*" || n.Space == api.HTML && n.Name == lowered(name) || n.Space != api.HTML && n.Name == name {
			all = append(all, k)
		}
	}
	return all
}

func byIDByRules(a *arena.Arena, h int, id string) int {
	for _, k := range nodesBelow(a, h) {
		if id != "" && slices.Contains(nodeOf(a, k).Attrs, api.Attr{Name: "id", Value: id}) {
			return k
		}
	}
	return 0
}

func beforeByRules(a *arena.Arena, h, k int) bool {
	if handleError(a, h, k) != api.OK || h == k || a.Root(h) != a.Root(k) {
		return false
	}
	walk := append([]int{a.Root(h)}, nodesBelow(a, a.Root(h))...)
	return slices.Index(walk, h) < slices.Index(walk, k)
}
