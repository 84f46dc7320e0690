package arena

import "thicket/api"

// Sound reports whether a list describes nodes as an arena could store them.
func Sound(nodes []api.Node) bool {
	l := list(nodes)
	for i, n := range l {
		if !hasOnlyItsFields(n) || !hasSoundNames(n) || !l.hasSoundDoc(i+1) || !l.hasSoundContents(i+1) {
			return false
		}
	}
	return l.hasSoundKids() && !l.hasCircle()
}

// list is a list of descriptions, of which nothing is known.
type list []api.Node

// at returns the description of a handle. If there is none, it is the zero
// description, whose kind is none.
func (l list) at(h int) api.Node {
	if h < 1 || h > len(l) {
		return api.Node{}
	}
	return l[h-1]
}

// hasOnlyItsFields reports whether a node is of a kind that exists, and all
// fields that the kind does not use are zero.
func hasOnlyItsFields(n api.Node) bool {
	isElement, isDoctype, isData := false, false, false
	switch n.Kind {
	case api.Document, api.Fragment:
	case api.Element:
		isElement = true
	case api.Doctype:
		isDoctype = true
	case api.Text, api.Comment:
		isData = true
	default:
		return false
	}
	return (canHaveKids(n.Kind) || len(n.Kids) == 0) &&
		(canHaveParent(n.Kind) || n.Parent == 0) &&
		(isElement || n.Space == api.NoSpace && len(n.Attrs) == 0) &&
		(isElement || isDoctype || n.Name == "") &&
		(isDoctype || n.Public == "" && n.System == "") &&
		(isData || n.Data == "") &&
		(n.Kind == api.Document || !n.Quirks) &&
		(isTemplate(n) || n.Contents == 0) &&
		(n.Kind == api.Fragment || n.Host == 0)
}

// hasSoundNames reports whether the namespaces of a node exist, and no
// attribute stands twice.
func hasSoundNames(n api.Node) bool {
	return isSpace(n.Space) && haveSpaces(n.Attrs) && len(once(n.Attrs)) == len(n.Attrs)
}

func (l list) hasSoundDoc(h int) bool {
	n := l.at(h)
	if n.Kind == api.Document {
		return n.Doc == h
	}
	return l.at(n.Doc).Kind == api.Document
}

// hasSoundContents reports whether a template has contents, and contents and
// host name each other.
func (l list) hasSoundContents(h int) bool {
	n := l.at(h)
	if isTemplate(n) {
		contents := l.at(n.Contents)
		return contents.Kind == api.Fragment && contents.Host == h
	}
	host := l.at(n.Host)
	return n.Host == 0 || isTemplate(host) && host.Contents == h
}

// hasSoundKids reports whether the children of each node are those that have it
// as their parent, each one once.
func (l list) hasSoundKids() bool {
	isKid := make([]bool, len(l))
	for i, n := range l {
		for _, kid := range n.Kids {
			if l.at(kid).Parent != i+1 || isKid[kid-1] {
				return false
			}
			isKid[kid-1] = true
		}
	}
	for i, n := range l {
		if isKid[i] != (n.Parent != 0) {
			return false
		}
	}
	return true
}

// hasCircle reports whether some way upward comes back to a node. The parents
// and hosts are known to exist.
func (l list) hasCircle() bool {
	step := func(h int) int { return holder(l.at(h)) }
	from := make([]int, len(l)) // where the first way came from that led to a node
	for start := range len(l) {
		for h := range upward(start+1, step) {
			if from[h-1] == start+1 {
				return true
			}
			if from[h-1] != 0 {
				break
			}
			from[h-1] = start + 1
		}
	}
	return false
}
