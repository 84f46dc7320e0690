package stack

import (
	"thicket/api"
	"thicket/text"
)

// Quirks reports whether a token is a quirks doctype.
func Quirks(t api.Token) bool {
	if t.Kind != api.DoctypeToken {
		return false
	}
	if t.Quirks || !t.HasName || t.Name != "html" {
		return true
	}
	return t.HasPublic && isQuirksPublic(t.Public, t.HasSystem)
}

func isQuirksPublic(public string, hasSystem bool) bool {
	return isOneOf(public,
		"-//W3O//DTD W3 HTML Strict 3.0//EN//",
		"-/W3C/DTD HTML 4.0 Transitional/EN",
		"HTML",
	) || beginsWithOneOf(public,
		"-//IETF//DTD HTML 2.0",
		"-//IETF//DTD HTML 2.1E//",
		"-//IETF//DTD HTML 3",
		"-//IETF//DTD HTML Level ",
		"-//IETF//DTD HTML Strict",
		"-//IETF//DTD HTML//",
		"-//W3C//DTD HTML 3 1995-03-24//",
		"-//W3C//DTD HTML 3.2",
		"-//W3C//DTD HTML 4.0 Frameset//",
		"-//W3C//DTD HTML 4.0 Transitional//",
		"-//W3C//DTD HTML Experimental 19960712//",
		"-//W3C//DTD HTML Experimental 970421//",
		"-//W3C//DTD W3 HTML//",
		"-//W3O//DTD W3 HTML 3.0//",
	) || !hasSystem && beginsWithOneOf(public,
		"-//W3C//DTD HTML 4.01 Frameset//",
		"-//W3C//DTD HTML 4.01 Transitional//",
	)
}

// isOneOf reports whether s is one of some strings, ignoring case.
func isOneOf(s string, others ...string) bool {
	for _, other := range others {
		if text.EqualFold(s, other) {
			return true
		}
	}
	return false
}

// beginsWithOneOf reports whether s begins with one of some strings, ignoring
// case.
func beginsWithOneOf(s string, others ...string) bool {
	for _, other := range others {
		if len(s) >= len(other) && text.EqualFold(s[:len(other)], other) {
			return true
		}
	}
	return false
}
