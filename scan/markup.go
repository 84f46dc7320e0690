package scan

import (
	"thicket/api"
	"thicket/text"
)

// Declaration reads what follows "<!".
func Declaration(s string, at int, cdata bool) (t api.Token, chars string, next int) {
	c := cursorAt(s, at)
	switch {
	case c.took("--"):
		t.Data, next = Comment(s, c.at)
	case c.tookFolded("doctype"):
		t, next = Doctype(s, c.at)
		return t, "", next
	case cdata && c.took("[CDATA["):
		chars, next = CDATA(s, c.at)
		return api.Token{}, chars, next
	default:
		t.Data, next = Bogus(s, c.at)
	}
	t.Kind = api.CommentToken
	return t, "", next
}

// Markup reads what follows "<" in ordinary content.
func Markup(s string, at int, cdata bool) (t api.Token, chars string, next int) {
	c := cursorAt(s, at)
	switch {
	case c.took("!"):
		return Declaration(s, c.at, cdata)
	case c.sees(text.IsLetter):
		t, _, next = Tag(s, c.at, false)
		return t, "", next
	case c.took("/"):
		return c.closing()
	case c.sees(isQuestion):
		return c.bogus()
	}
	return api.Token{}, "<", c.at
}

func isQuestion(r rune) bool {
	return r == '?'
}

// closing reads what follows "</".
func (c *cursor) closing() (t api.Token, chars string, next int) {
	switch {
	case c.sees(text.IsLetter):
		t, _, next = Tag(c.s, c.at, true)
		return t, "", next
	case c.took(">"):
		return api.Token{}, "", c.at
	case c.ended():
		return api.Token{}, "</", c.at
	}
	return c.bogus()
}

// bogus reads a bogus comment.
func (c *cursor) bogus() (t api.Token, chars string, next int) {
	data, next := Bogus(c.s, c.at)
	return api.Token{Kind: api.CommentToken, Data: data}, "", next
}
