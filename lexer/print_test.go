package lexer_test

import (
	"math"
	"slices"
	"strings"
	"testing"
	"unicode/utf8"

	"thicket/api"
	"thicket/lexer"
	"thicket/samples"
)

// P3.4: how tokens are printed, printable or not.
func TestPrint(t *testing.T) {
	doctype := func(change func(*api.Token)) api.Token {
		token := api.Token{Kind: api.DoctypeToken}
		change(&token)
		return token
	}
	for _, c := range []struct {
		token api.Token
		want  string
	}{
		{tag("a"), "<a>"},
		{selfClosing(tag("a")), "<a/>"},
		{tag("a", "x", "1\"<"), `<a x="1&quot;<">`},
		{tag("a", "b", "", "c", "&\u00A0>'\n"), "<a b=\"\" c=\"&amp;&nbsp;>'\n\">"},
		{tag("a", "b", "\r\n\r&#13;"), "<a b=\"&#13;\n&#13;&amp;#13;\">"},
		{selfClosing(tag("a", "b", "1", "b", "2")), `<a b="1" b="2"/>`},
		{tag("A >", "", "\xFF\x00", "=\r", ""), "<A > =\"\xFF\x00\" =\r=\"\">"},
		{api.Token{Kind: api.StartTag, Attrs: []api.Attr{{Space: api.XML, Name: "a"}}, Data: "d", Rune: 'r'}, `< a="">`},
		{end("a"), "</a>"},
		{api.Token{Kind: api.EndTag, Name: "\xFF", Attrs: []api.Attr{{Name: "a"}}, SelfClosing: true}, "</\xFF>"},
		{comment(""), "<!---->"},
		{comment("a--b&<\r"), "<!--a--b&<\r-->"},
		{comment("-->"), "<!---->-->"},
		{doctype(func(*api.Token) {}), "<!DOCTYPE>"},
		{doctype(func(t *api.Token) { t.Quirks = true }), "<!DOCTYPE>"},
		{doctype(func(t *api.Token) { t.Name, t.Public, t.System = "n", "p", "s" }), "<!DOCTYPE>"},
		{doctype(func(t *api.Token) { t.HasName, t.HasPublic, t.HasSystem = true, true, true }), `<!DOCTYPE  PUBLIC "" "">`},
		{doctype(func(t *api.Token) { t.HasSystem, t.Quirks = true, true }), `<!DOCTYPE SYSTEM "">`},
		{lexer.Doctype("html", "", ""), "<!DOCTYPE html>"},
		{lexer.Doctype("a", "p", ""), `<!DOCTYPE a PUBLIC "p">`},
		{lexer.Doctype("a", "", "s"), `<!DOCTYPE a SYSTEM "s">`},
		{lexer.Doctype("a", "p'", "s\""), `<!DOCTYPE a PUBLIC "p'" 's"'>`},
		{lexer.Doctype("a", "'\"", "\"'"), `<!DOCTYPE a PUBLIC ''"' '"''>`},
		{lexer.Doctype("", "p&", ">\r"), "<!DOCTYPE PUBLIC \"p&\" \">\r\">"},
		{char('a'), "a"},
		{char('&'), "&amp;"},
		{char('<'), "&lt;"},
		{char('>'), "&gt;"},
		{char('"'), `"`},
		{char('\r'), "&#13;"},
		{char('\n'), "\n"},
		{char(0), "\x00"},
		{char(0xA0), "&nbsp;"},
		{char(0x10FFFF), "\U0010FFFF"},
		{char(0x110000), "\uFFFD"},
		{char(0xD7FF), "\uD7FF"},
		{char(0xD800), "\uFFFD"},
		{char(0xDFFF), "\uFFFD"},
		{char(-1), "\uFFFD"},
		{char(math.MinInt32), "\uFFFD"},
		{char(math.MaxInt32), "\uFFFD"},
		{api.Token{Kind: api.Char, Rune: 'a', Data: "b"}, "a"},
		{eof, ""},
		{api.Token{Kind: api.EOF, Name: "a", Data: "a", Rune: 'a'}, ""},
		{api.Token{Name: "a", Data: "a", Rune: 'a'}, ""},
		{api.Token{Kind: -1, Name: "a", Data: "a", Rune: 'a'}, ""},
		{api.Token{Kind: 7, Name: "a", Data: "a", Rune: 'a'}, ""},
	} {
		if got := lexer.Print([]api.Token{c.token}); got != c.want {
			t.Errorf("Print of %+v: %q, want %q", c.token, got, c.want)
		}
	}
}

// P3.4: the tokens of a list are printed one after the other.
func TestPrintLists(t *testing.T) {
	if got := lexer.Print(nil); got != "" {
		t.Errorf("Print of nothing: %q", got)
	}
	l := list(tag("a", "x", `1"<`), "<&", end("a"), eof, comment("b"), api.Token{}, lexer.Doctype("c", "", ""), "d")
	if got := lexer.Print(l); got != `<a x="1&quot;<">&lt;&amp;</a><!--b--><!DOCTYPE c>d` {
		t.Errorf("Print: %q", got)
	}
}

// isPrintable is Printable of one token.
func isPrintable(token api.Token) bool {
	return lexer.Printable([]api.Token{token})
}

// P3.4: a token of each printable sort, and the fields that its kind does not
// use.
func TestPrintableFields(t *testing.T) {
	for _, c := range []struct {
		token api.Token
		used  string
	}{
		{tag("a"), "Name Attrs SelfClosing"},
		{selfClosing(tag("a", "b", "c")), "Name Attrs SelfClosing"},
		{end("a"), "Name"},
		{comment("a"), "Data"},
		{comment(""), "Data"},
		{api.Token{Kind: api.DoctypeToken, Quirks: true}, "Quirks"},
		{lexer.Doctype("a", "", ""), "Name HasName HasPublic HasSystem"},
		{lexer.Doctype("a", "b", ""), "Name HasName Public HasPublic HasSystem"},
		{lexer.Doctype("a", "", "b"), "Name HasName HasPublic System HasSystem"},
		{lexer.Doctype("a", "b", "c"), "Name HasName Public HasPublic System HasSystem"},
		{char('a'), "Rune"},
		{char(0), "Rune"},
	} {
		if !isPrintable(c.token) {
			t.Errorf("%+v is not printable", c.token)
		}
		for field, set := range setters() {
			changed := c.token
			set(&changed)
			used := slices.Contains(strings.Fields(c.used), field)
			if got := isPrintable(changed); got != used {
				t.Errorf("%s set to something in %+v: %v", field, c.token, got)
			}
		}
		c.token.Attrs = append([]api.Attr{}, c.token.Attrs...)
		if !isPrintable(c.token) {
			t.Errorf("%+v with an empty list is not printable", c.token)
		}
	}
}

// P3.4: a list is printable if all its tokens are; an end never is.
func TestPrintableLists(t *testing.T) {
	for _, c := range []struct {
		l    []api.Token
		want bool
	}{
		{nil, true},
		{[]api.Token{}, true},
		{list("a", tag("a"), end("b"), comment(""), "b"), true},
		{list("a", eof), false},
		{list(eof, "a"), false},
		{list("a", api.Token{}, "b"), false},
		{list(eof), false},
		{list(api.Token{Kind: -1}), false},
		{list(api.Token{Kind: 7}), false},
	} {
		if got := lexer.Printable(c.l); got != c.want {
			t.Errorf("Printable(%+v) = %v", c.l, got)
		}
	}
}

// P3.4: characters are scalar values.
func TestPrintableCharacters(t *testing.T) {
	for r := rune(-10); r < 0x110010; r++ {
		if isPrintable(char(r)) != utf8.ValidRune(r) {
			t.Errorf("character %x", r)
		}
	}
	if isPrintable(char(math.MinInt32)) || isPrintable(char(math.MaxInt32)) {
		t.Error("numbers far out of range")
	}
}

// strange calls f with many short strings, valid and not.
func strange(f func(s string)) {
	samples.Joined(samples.Bytes(), 1, f)
	samples.Joined([]string{
		"a", "Z", "1", " ", "\t", "\n", "\f", "\r", "/", ">", "<", "=", "-", "--", "!", "->", "\x00", `"`, "'", "\u00E9", "\uFFFD", "\xC3", "\xA9",
	}, 3, f)
}

// plainName is the chapter's definition; ends are the bytes that end a name.
func plainName(s, ends string) bool {
	for i := range len(s) {
		if strings.IndexByte(ends+"\t\n\f\r \x00", s[i]) >= 0 || 'A' <= s[i] && s[i] <= 'Z' {
			return false
		}
	}
	return s != "" && utf8.ValidString(s)
}

// P3.4: names, values, data and identifiers, against the chapter's conditions.
func TestPrintableStrings(t *testing.T) {
	contains := func(s string, parts ...string) bool {
		return slices.ContainsFunc(parts, func(part string) bool { return strings.Contains(s, part) })
	}
	check := func(token api.Token, want bool) {
		if got := isPrintable(token); got != want {
			t.Errorf("Printable of %+v: %v", token, got)
		}
	}
	strange(func(s string) {
		clean := utf8.ValidString(s) && !contains(s, "\x00")
		plain := plainName(s, "/>")
		letter := plain && 'a' <= s[0] && s[0] <= 'z'
		check(tag(s), letter)
		check(selfClosing(tag(s)), letter)
		check(end(s), letter)
		check(tag("a", s, "v"), plain && !contains(s[1:], "="))
		check(tag("a", "n", s), clean)
		check(tag("a", "n", "v", "m", s), clean)
		check(comment(s), clean && !contains(s, "\r", "-->", "--!>") && !strings.HasPrefix(s, ">") && !strings.HasPrefix(s, "->"))
		check(api.Token{Kind: api.DoctypeToken, Name: s, HasName: true}, plainName(s, ">"))
		identifier := clean && !contains(s, "\r", ">") && !(contains(s, `"`) && contains(s, "'"))
		check(api.Token{Kind: api.DoctypeToken, Name: "a", HasName: true, Public: s, HasPublic: true}, identifier)
		check(api.Token{Kind: api.DoctypeToken, Name: "a", HasName: true, System: s, HasSystem: true}, identifier)
		check(api.Token{Kind: api.DoctypeToken, Name: "a", HasName: true, Public: "p", HasPublic: true, System: s, HasSystem: true}, identifier)
		check(api.Token{Kind: api.DoctypeToken, Name: "a", HasName: true, Public: s}, s == "")
		check(api.Token{Kind: api.DoctypeToken, Name: "a", HasName: true, System: s}, s == "")
	})
}

// P3.4: the attributes of a start tag together.
func TestPrintableAttributes(t *testing.T) {
	for _, c := range []struct {
		token api.Token
		want  bool
	}{
		{tag("a", "b", "1", "c", "1"), true},
		{tag("a", "b", "1", "b", "2"), false},
		{tag("a", "b", "1", "c", "2", "b", "1"), false},
		{tag("a", "=", "=", "==", ""), false},
		{tag("a", "=b", "="), true},
		{tag("a", "b=", ""), false},
		{tag("a", "b", "1", "C", "2"), false},
		{tag("a", "b", "\x00", "c", "2"), false},
		{tag("a", "", ""), false},
		{lexer.Start("a", api.Attr{Space: api.XML, Name: "b"}), false},
		{lexer.Start("a", api.Attr{Space: api.HTML, Name: "b"}), false},
		{lexer.Start("a", api.Attr{Space: -1, Name: "b"}), false},
		{lexer.Start("a", api.Attr{Name: "b"}, api.Attr{Space: api.XLink, Name: "c"}), false},
	} {
		if got := isPrintable(c.token); got != c.want {
			t.Errorf("Printable of %+v: %v", c.token, got)
		}
	}
}
