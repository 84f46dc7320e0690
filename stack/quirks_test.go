package stack_test

import (
	"math"
	"slices"
	"strings"
	"testing"

	"thicket/api"
	"thicket/stack"
)

// The public identifiers of the chapter.
func wholeIdentifiers() []string {
	return []string{"-//W3O//DTD W3 HTML Strict 3.0//EN//", "-/W3C/DTD HTML 4.0 Transitional/EN", "HTML"}
}

func beginnings() []string {
	return []string{
		"-//IETF//DTD HTML 2.0", "-//IETF//DTD HTML 2.1E//", "-//IETF//DTD HTML 3", "-//IETF//DTD HTML Level ", "-//IETF//DTD HTML Strict", "-//IETF//DTD HTML//",
		"-//W3C//DTD HTML 3 1995-03-24//", "-//W3C//DTD HTML 3.2", "-//W3C//DTD HTML 4.0 Frameset//", "-//W3C//DTD HTML 4.0 Transitional//",
		"-//W3C//DTD HTML Experimental 19960712//", "-//W3C//DTD HTML Experimental 970421//", "-//W3C//DTD W3 HTML//", "-//W3O//DTD W3 HTML 3.0//",
	}
}

func beginningsWithoutSystem() []string {
	return []string{"-//W3C//DTD HTML 4.01 Frameset//", "-//W3C//DTD HTML 4.01 Transitional//"}
}

// identifiers are those of the chapter, and some that differ from them.
func identifiers() []string {
	all := []string{"", "x", "-", "html5", "-//W3C//DTD HTML 4.01//EN", "-//W3C//DTD XHTML 1.0 Transitional//EN", "-//W3C//DTD HTML 4.01 Strict//", "-//IETF//DTD HTML 2.1//", "-//IETF//DTD HTML Level", "HTM\u0141", "-//IETF//DTD HTML \u017Ftrict"}
	for _, id := range slices.Concat(wholeIdentifiers(), beginnings(), beginningsWithoutSystem()) {
		all = append(all, id, strings.ToLower(id), strings.ToUpper(id), id+"x", id+"\x00", id+"EN", " "+id, id[:len(id)-1], id[1:], strings.Replace(id, "H", "G", 1), strings.Replace(id, "T", "\x14", 1))
	}
	return all
}

func beginsIgnoringCase(list []string, s string) bool {
	return slices.ContainsFunc(list, func(beginning string) bool { return strings.HasPrefix(lowered(s), lowered(beginning)) })
}

// quirksByRules follows the four points of the chapter.
func quirksByRules(token api.Token) bool {
	equals := func(id string) bool { return lowered(id) == lowered(token.Public) }
	switch {
	case token.Kind != api.DoctypeToken:
		return false
	case token.Quirks || !token.HasName || token.Name != "html":
		return true
	case token.HasPublic && slices.ContainsFunc(wholeIdentifiers(), equals):
		return true
	case token.HasPublic && beginsIgnoringCase(beginnings(), token.Public):
		return true
	}
	return !token.HasSystem && token.HasPublic && beginsIgnoringCase(beginningsWithoutSystem(), token.Public)
}

// P6.2: tokens with all combinations of identifiers and flags.
func TestQuirks(t *testing.T) {
	bools := []bool{false, true}
	for _, public := range identifiers() {
		for _, name := range []string{"html", "HTML", "Html", "", "htm", "html5", "svg", "html\x00"} {
			for flags := range 16 {
				token := api.Token{
					Kind: api.DoctypeToken, Name: name, Public: public,
					HasName: bools[flags&1], HasPublic: bools[flags>>1&1], HasSystem: bools[flags>>2&1], Quirks: bools[flags>>3&1],
				}
				for _, system := range []string{"", "about:legacy-compat", "http://www.ibm.com/data/dtd/v11/ibmxhtml1-transitional.dtd", "HTML"} {
					token.System = system
					if got := stack.Quirks(token); got != quirksByRules(token) {
						t.Errorf("Quirks(%+v) = %t", token, got)
					}
				}
			}
		}
	}
}

// P6.2: tokens of other kinds are no doctypes, whatever their fields are.
func TestQuirksOfOtherKinds(t *testing.T) {
	for _, kind := range []api.TokenKind{0, -1, api.StartTag, api.EndTag, api.CommentToken, api.Char, api.EOF, 7, math.MinInt, math.MaxInt} {
		for _, name := range []string{"html", "x", ""} {
			token := api.Token{Kind: kind, Name: name, HasName: name != "", Quirks: true, Public: "HTML", HasPublic: true}
			if stack.Quirks(token) {
				t.Errorf("Quirks(%+v)", token)
			}
		}
	}
}

// P6.2: what is a quirks doctype, said once more without the rules.
func TestQuirksPlainly(t *testing.T) {
	html := api.Token{Kind: api.DoctypeToken, Name: "html", HasName: true}
	public := func(id string, hasSystem bool) api.Token {
		token := html
		token.Public, token.HasPublic, token.HasSystem = id, true, hasSystem
		return token
	}
	forced, unnamed, hidden := html, html, public("HTML", false)
	forced.Quirks, unnamed.HasName, hidden.HasPublic = true, false, false
	hiddenSystem := public("-//W3C//DTD HTML 4.01 Frameset//EN", false)
	hiddenSystem.System = "x"
	for i, x := range []struct {
		token api.Token
		want  bool
	}{
		{html, false}, {forced, true}, {unnamed, true}, {hidden, false}, {hiddenSystem, true}, {api.Token{Kind: api.DoctypeToken}, true}, {api.Token{}, false},
		{public("html", true), true}, {public("html ", true), false}, {public("-/w3c/dtd html 4.0 transitional/en", true), true}, {public("-/w3c/dtd html 4.0 transitional/en/", true), false},
		{public("-//W3O//DTD W3 HTML Strict 3.0//EN//", false), true}, {public("-//W3O//DTD W3 HTML Strict 3.0//EN", false), false},
		{public("-//ietf//dtd html 2.0 level 1//en", true), true}, {public("-//IETF//DTD HTML 3", true), true}, {public("-//IETF//DTD HTML 4", true), false}, {public("", false), false},
		{public("-//w3c//dtd html 4.01 frameset//en", false), true}, {public("-//w3c//dtd html 4.01 frameset//en", true), false}, {public("-//W3C//DTD HTML 4.01 Transitional//", false), true},
		{public("-//W3C//DTD HTML 4.0 Transitional//EN", true), true}, {public("-//W3C//DTD XHTML 1.0 Frameset//EN", false), false},
	} {
		if got := stack.Quirks(x.token); got != x.want {
			t.Errorf("%d: Quirks(%+v) = %t", i, x.token, got)
		}
	}
}
