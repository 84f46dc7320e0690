package dom

import (
	"slices"

	"thicket/api"
	"thicket/arena"
	"thicket/text"
)

// CreateElement creates an element of the namespace HTML.
func CreateElement(a *arena.Arena, doc int, name string) (int, api.Errno) {
	if _, e := checkKind(a, doc, api.Document); e != api.OK {
		return 0, e
	}
	if !text.ValidElement(name) {
		return 0, api.ErrChar
	}
	return a.Element(doc, api.HTML, text.Lower(name), nil)
}

// Attribute returns the value of an attribute.
func Attribute(a *arena.Arena, el int, space api.Space, name string) (string, bool, api.Errno) {
	n, e := checkElement(a, el, space)
	if e != api.OK {
		return "", false, e
	}
	index := indexOf(n, space, nameFor(n, space, name))
	if index < 0 {
		return "", false, api.OK
	}
	return n.Attrs[index].Value, true, api.OK
}

// SetAttribute sets the value of an attribute.
func SetAttribute(a *arena.Arena, el int, space api.Space, name, value string) api.Errno {
	n, e := checkElement(a, el, space)
	if e != api.OK {
		return e
	}
	if !text.ValidAttribute(name) {
		return api.ErrChar
	}
	attr := api.Attr{Space: space, Name: nameFor(n, space, name), Value: value}
	if index := indexOf(n, space, attr.Name); index >= 0 {
		n.Attrs[index] = attr
	} else {
		n.Attrs = append(n.Attrs, attr)
	}
	return a.SetAttrs(el, n.Attrs)
}

// RemoveAttribute removes an attribute.
func RemoveAttribute(a *arena.Arena, el int, space api.Space, name string) (bool, api.Errno) {
	n, e := checkElement(a, el, space)
	if e != api.OK {
		return false, e
	}
	index := indexOf(n, space, nameFor(n, space, name))
	if index < 0 {
		return false, api.OK
	}
	return true, a.SetAttrs(el, slices.Delete(n.Attrs, index, index+1))
}

// checkElement returns the error of a call that needs an element and a
// namespace for its attributes, or the element.
func checkElement(a *arena.Arena, el int, space api.Space) (item, api.Errno) {
	n, e := checkKind(a, el, api.Element)
	if e != api.OK {
		return item{}, e
	}
	if space < api.NoSpace || space > api.Other {
		return item{}, api.ErrArg
	}
	return n, api.OK
}

// nameFor returns the name by which an element stores an attribute.
func nameFor(el item, space api.Space, name string) string {
	if el.Space == api.HTML && space == api.NoSpace {
		return text.Lower(name)
	}
	return name
}

// indexOf returns the index of an attribute, or -1 if there is none.
func indexOf(el item, space api.Space, name string) int {
	return slices.IndexFunc(el.Attrs, func(attr api.Attr) bool {
		return attr.Space == space && attr.Name == name
	})
}
