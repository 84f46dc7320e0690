package arena

import "thicket/api"

// SetData sets the data of text or of a comment.
func (a *Arena) SetData(h int, data string) api.Errno {
	if e := a.checkKind(h, api.Text, api.Comment); e != api.OK {
		return e
	}
	a.at(h).Data = data
	return api.OK
}

// SetAttrs replaces the attributes of an element.
func (a *Arena) SetAttrs(h int, attrs []api.Attr) api.Errno {
	if e := a.checkKind(h, api.Element); e != api.OK {
		return e
	}
	if !haveSpaces(attrs) {
		return api.ErrArg
	}
	a.at(h).Attrs = once(attrs)
	return api.OK
}

// SetQuirks sets whether a document is in quirks mode.
func (a *Arena) SetQuirks(h int, quirks bool) api.Errno {
	if e := a.checkKind(h, api.Document); e != api.OK {
		return e
	}
	a.at(h).Quirks = quirks
	return api.OK
}

// SetDoc sets the node document of a node.
func (a *Arena) SetDoc(h, doc int) api.Errno {
	if e := a.check(h, doc); e != api.OK {
		return e
	}
	if a.at(h).Kind == api.Document || a.at(doc).Kind != api.Document {
		return api.ErrKind
	}
	a.at(h).Doc = doc
	return api.OK
}
