package arena

import (
	"strconv"
	"strings"

	"thicket/api"
)

// Dump returns the preorder of a node as text.
func (a *Arena) Dump(h int) string {
	var dump strings.Builder
	for _, v := range a.preorder(h) {
		dump.WriteString(strings.Repeat("  ", v.depth))
		dump.WriteString(line(a.at(v.handle).Node))
		dump.WriteString("\n")
	}
	return dump.String()
}

// line returns the text for one node.
func line(n api.Node) string {
	switch {
	case n.Kind == api.Document && n.Quirks:
		return "document quirks"
	case n.Kind == api.Document:
		return "document"
	case n.Kind == api.Fragment && n.Host != 0:
		return "contents"
	case n.Kind == api.Fragment:
		return "fragment"
	case n.Kind == api.Doctype:
		return "doctype " + quoted(n.Name) + " " + quoted(n.Public) + " " + quoted(n.System)
	case n.Kind == api.Text:
		return "text " + quoted(n.Data)
	case n.Kind == api.Comment:
		return "comment " + quoted(n.Data)
	}
	return elementLine(n)
}

func elementLine(n api.Node) string {
	var element strings.Builder
	element.WriteString("element " + number(n.Space) + " " + quoted(n.Name))
	for _, attr := range n.Attrs {
		element.WriteString(" " + number(attr.Space) + ":" + quoted(attr.Name) + "=" + quoted(attr.Value))
	}
	return element.String()
}

func number(s api.Space) string {
	return strconv.Itoa(int(s))
}

// quoted returns a string between double quotes, on one line.
func quoted(s string) string {
	s = strings.ReplaceAll(s, `\`, `\\`) // first, since the others write backslashes
	s = strings.ReplaceAll(s, `"`, `\"`)
	s = strings.ReplaceAll(s, "\n", `\n`)
	return `"` + s + `"`
}
