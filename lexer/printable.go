package lexer

import (
	"strings"
	"unicode/utf8"

	"thicket/api"
	"thicket/text"
)

// Printable reports whether Print's result is read back.
func Printable(l []api.Token) bool {
	for _, t := range l {
		if !printable(t) {
			return false
		}
	}
	return true
}

// printable compares the token with one that has nothing but the fields that
// its kind uses, and examines these.
func printable(t api.Token) bool {
	switch t.Kind {
	case api.StartTag:
		used := api.Token{Kind: t.Kind, Name: t.Name, Attrs: t.Attrs, SelfClosing: t.SelfClosing}
		return Equal(t, used) && isTagName(t.Name) && printableAttrs(t.Attrs)
	case api.EndTag:
		return Equal(t, End(t.Name)) && isTagName(t.Name)
	case api.CommentToken:
		used := api.Token{Kind: t.Kind, Data: t.Data}
		return Equal(t, used) && isCommentData(t.Data)
	case api.DoctypeToken:
		return printableDoctype(t)
	case api.Char:
		return Equal(t, char(t.Rune)) && utf8.ValidRune(t.Rune)
	}
	return false
}

func printableAttrs(attrs []api.Attr) bool {
	for _, attr := range attrs {
		if attr.Space != api.NoSpace || !isAttributeName(attr.Name) || !isClean(attr.Value) {
			return false
		}
	}
	return len(Once(attrs)) == len(attrs)
}

// printableDoctype accepts two kinds of declarations: what "<!DOCTYPE>" is read
// as, and one with a name and without an error.
func printableDoctype(t api.Token) bool {
	if t.Quirks {
		return Equal(t, api.Token{Kind: t.Kind, Quirks: true})
	}
	used := api.Token{
		Kind: t.Kind,
		Name: t.Name, HasName: true,
		Public: t.Public, HasPublic: t.HasPublic,
		System: t.System, HasSystem: t.HasSystem,
	}
	return Equal(t, used) && isName(t.Name, ">") &&
		isIdentifier(t.Public, t.HasPublic) && isIdentifier(t.System, t.HasSystem)
}

func isTagName(name string) bool {
	return isName(name, "/", ">") && text.IsLetter(rune(name[0]))
}

// isAttributeName allows a "=" in front, which begins a name where no other
// name stands before it.
func isAttributeName(name string) bool {
	return isName(name, "/", ">") && !strings.Contains(name[1:], "=")
}

// isName reports whether s is a name that lacks what would end it, and that is
// not changed by being lowered.
func isName(s string, ends ...string) bool {
	return s != "" && isClean(s, ends...) && !strings.ContainsFunc(s, text.IsSpace) && !strings.ContainsFunc(s, text.IsUpper)
}

func isCommentData(data string) bool {
	return isClean(data, "\r", "-->", "--!>") && !strings.HasPrefix(data, ">") && !strings.HasPrefix(data, "->")
}

// isIdentifier reports whether s is the identifier of a document type that has
// one, or has none.
func isIdentifier(s string, has bool) bool {
	if !has {
		return s == ""
	}
	return isClean(s, "\r", ">") && !(strings.Contains(s, `"`) && strings.Contains(s, "'"))
}

// isClean reports whether s is valid and contains neither a byte 00, which
// would be replaced, nor one of the other strings.
func isClean(s string, others ...string) bool {
	for _, other := range others {
		if strings.Contains(s, other) {
			return false
		}
	}
	return text.Valid(s) && !strings.Contains(s, "\x00")
}
