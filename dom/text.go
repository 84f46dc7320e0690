package dom

import (
	"slices"
	"strings"

	"thicket/api"
	"thicket/arena"
)

// TextContent returns the text of a node.
func TextContent(a *arena.Arena, h int) (string, api.Errno) {
	if e := check(a, h); e != api.OK {
		return "", e
	}
	n := look(a, h)
	switch n.Kind {
	case api.Text, api.Comment:
		return n.Data, api.OK
	case api.Element, api.Fragment:
		return textBelow(a, h), api.OK
	}
	return "", api.OK
}

func textBelow(a *arena.Arena, h int) string {
	var data strings.Builder
	for k := range below(a, h) {
		if n := look(a, k); n.Kind == api.Text {
			data.WriteString(n.Data)
		}
	}
	return data.String()
}

// SetTextContent sets the text of a node.
func SetTextContent(a *arena.Arena, h int, s string) api.Errno {
	if e := check(a, h); e != api.OK {
		return e
	}
	n := look(a, h)
	switch n.Kind {
	case api.Text, api.Comment:
		return a.SetData(h, s)
	case api.Element, api.Fragment:
		removeKids(a, n)
		if s != "" {
			t, _ := a.Text(n.Doc, s)
			return a.Put(h, t, 0)
		}
	}
	return api.OK
}

// Normalize joins texts that follow one another, and removes empty ones.
func Normalize(a *arena.Arena, h int) api.Errno {
	if e := check(a, h); e != api.OK {
		return e
	}
	for parent := range tree(a, h) {
		normalizeKids(a, parent)
	}
	return api.OK
}

func normalizeKids(a *arena.Arena, parent int) {
	var texts []item
	for _, kid := range lookAll(a, a.Kids(parent)) {
		if kid.Kind == api.Text {
			texts = append(texts, kid)
			continue
		}
		join(a, texts)
		texts = nil
	}
	join(a, texts)
}

// join gives the data of all texts to the first one that has any, and removes
// the others.
func join(a *arena.Arena, texts []item) {
	kept := slices.IndexFunc(texts, func(t item) bool { return t.Data != "" })
	var data strings.Builder
	for i, t := range texts {
		data.WriteString(t.Data)
		if i != kept {
			a.Cut(t.handle)
		}
	}
	if kept >= 0 {
		a.SetData(texts[kept].handle, data.String())
	}
}

// Split splits text in two.
func Split(a *arena.Arena, h, at int) (int, api.Errno) {
	n, e := checkKind(a, h, api.Text)
	if e != api.OK {
		return 0, e
	}
	if at < 0 || at > len(n.Data) {
		return 0, api.ErrArg
	}
	rest, _ := a.Text(n.Doc, n.Data[at:])
	a.SetData(h, n.Data[:at])
	if n.Parent != 0 {
		a.Put(n.Parent, rest, following(a, h))
	}
	return rest, api.OK
}
