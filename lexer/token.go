package lexer

import (
	"slices"

	"thicket/api"
	"thicket/text"
)

// Equal reports whether two tokens are the same.
func Equal(a, b api.Token) bool {
	return a.Kind == b.Kind &&
		a.Name == b.Name && a.HasName == b.HasName &&
		a.Public == b.Public && a.HasPublic == b.HasPublic &&
		a.System == b.System && a.HasSystem == b.HasSystem &&
		a.Quirks == b.Quirks &&
		slices.Equal(a.Attrs, b.Attrs) && a.SelfClosing == b.SelfClosing &&
		a.Data == b.Data &&
		a.Rune == b.Rune
}

// Attr returns the value of a token's attribute.
func Attr(t api.Token, name string) (value string, ok bool) {
	for _, attr := range t.Attrs {
		if attr.Name == name {
			return attr.Value, true
		}
	}
	return "", false
}

// Once returns the first attribute of each name.
func Once(attrs []api.Attr) []api.Attr {
	var first []api.Attr
	seen := map[string]bool{}
	for _, attr := range attrs {
		if !seen[attr.Name] {
			seen[attr.Name] = true
			first = append(first, attr)
		}
	}
	return first
}

// Start returns a start tag.
func Start(name string, attrs ...api.Attr) api.Token {
	return api.Token{Kind: api.StartTag, Name: name, Attrs: slices.Clone(attrs)}
}

// End returns an end tag.
func End(name string) api.Token {
	return api.Token{Kind: api.EndTag, Name: name}
}

// Doctype returns a document type token.
func Doctype(name, public, system string) api.Token {
	return api.Token{
		Kind: api.DoctypeToken,
		Name: name, HasName: name != "",
		Public: public, HasPublic: public != "",
		System: system, HasSystem: system != "",
	}
}

// Chars returns the character tokens of a string.
func Chars(s string) []api.Token {
	var chars []api.Token
	for _, r := range text.Decode(s) {
		chars = append(chars, char(r))
	}
	return chars
}

func char(r rune) api.Token {
	return api.Token{Kind: api.Char, Rune: r}
}
