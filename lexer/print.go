package lexer

import (
	"strings"

	"thicket/api"
	"thicket/text"
)

// crReference stands for a CR, which the input would turn into LF.
const crReference = "&#13;"

// Print returns tokens as markup.
func Print(l []api.Token) string {
	var p printer
	for _, t := range l {
		p.token(t)
	}
	return p.String()
}

// printer collects markup.
type printer struct {
	strings.Builder
}

func (p *printer) put(parts ...string) {
	for _, part := range parts {
		p.WriteString(part)
	}
}

func (p *printer) token(t api.Token) {
	switch t.Kind {
	case api.StartTag:
		p.startTag(t)
	case api.EndTag:
		p.put("</", t.Name, ">")
	case api.CommentToken:
		p.put("<!--", t.Data, "-->")
	case api.DoctypeToken:
		p.doctype(t)
	case api.Char:
		p.char(t.Rune)
	}
}

func (p *printer) startTag(t api.Token) {
	p.put("<", t.Name)
	for _, attr := range t.Attrs {
		value := strings.ReplaceAll(text.EscapeValue(attr.Value), "\r", crReference)
		p.put(" ", attr.Name, `="`, value, `"`)
	}
	if t.SelfClosing {
		p.put("/")
	}
	p.put(">")
}

func (p *printer) doctype(t api.Token) {
	p.put("<!DOCTYPE")
	if t.HasName {
		p.put(" ", t.Name)
	}
	if t.HasPublic {
		p.put(" PUBLIC ", quoted(t.Public))
	}
	if t.HasSystem && !t.HasPublic {
		p.put(" SYSTEM")
	}
	if t.HasSystem {
		p.put(" ", quoted(t.System))
	}
	p.put(">")
}

// quoted returns the identifier of a document type between quotes. There is no
// way to write one that contains both quotes.
func quoted(identifier string) string {
	if strings.Contains(identifier, `"`) {
		return "'" + identifier + "'"
	}
	return `"` + identifier + `"`
}

func (p *printer) char(r rune) {
	if r == '\r' {
		p.put(crReference)
		return
	}
	p.put(text.EscapeText(string(r)))
}
