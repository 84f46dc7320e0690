package lexer_test

import (
	"strings"
	"testing"

	"thicket/api"
	"thicket/lexer"
	"thicket/samples"
	"thicket/text"
)

// printableTokens are tokens that are hard to read back.
func printableTokens() []api.Token {
	return list(
		"a\n\r<>&;\"'\x00\u00A0\u00E9\uFFFD\U0001F600",
		tag("a"), selfClosing(tag("a")), tag("a<&\"'=\u00E9"), tag("script"), tag("title"), tag("plaintext"),
		tag("a", "b", ""), selfClosing(tag("a", "b", "/")), tag("a", "=", "=", "=<", ">"), tag("a", "\"", "'", "b&", "\""),
		tag("a", "b", "\r\n\r&lt;&#13;\u00A0<>", "\u00E9", " "), tag("a", "-", "&", "--!", "&amp"),
		end("a"), end("a<&\"'=\u00E9"), end("script"),
		comment(""), comment("-"), comment("--"), comment("--!"), comment("!"), comment("<!-"), comment("<!--"), comment("a>&lt;\n"), comment("- >"),
		comment("[CDATA[x]]"),
		api.Token{Kind: api.DoctypeToken, Quirks: true},
		lexer.Doctype("a", "", ""), lexer.Doctype("/public\"'<", "", ""), lexer.Doctype("a", "p'", "s\""), lexer.Doctype("a", "", "s\n&lt;"),
		api.Token{Kind: api.DoctypeToken, Name: "a", HasName: true, HasPublic: true},
		api.Token{Kind: api.DoctypeToken, Name: "a", HasName: true, HasSystem: true},
		api.Token{Kind: api.DoctypeToken, Name: "a", HasName: true, HasPublic: true, HasSystem: true, System: "<!--"},
	)
}

// printableLists calls f with the lists of up to three of the tokens.
func printableLists(f func(l []api.Token)) {
	tokens := printableTokens()
	f(nil)
	for _, a := range tokens {
		f([]api.Token{a})
		for _, b := range tokens {
			f([]api.Token{a, b})
			for _, c := range tokens {
				f([]api.Token{a, b, c})
			}
		}
	}
}

// P3.5, P0.3: printable tokens are read back, whatever the last name is.
func TestReadBack(t *testing.T) {
	printableLists(func(l []api.Token) {
		if !lexer.Printable(l) {
			t.Errorf("%+v is not printable", l)
		}
		want := append(l[:len(l):len(l)], eof)
		for _, cdata := range []bool{false, true} {
			if got := lexer.All(lexer.Print(l), api.DataState, "a", cdata); !same(got, want) {
				t.Errorf("%q is read as %+v, want %+v", lexer.Print(l), got, want)
			}
		}
	})
}

// P3.5: every printable token with a strange string in it.
func TestStrangeStringsReadBack(t *testing.T) {
	check := func(token api.Token) {
		l := []api.Token{token}
		if !lexer.Printable(l) {
			return
		}
		if got := lexer.All(lexer.Print(l)+"x", api.DataState, "", false); !same(got, list(token, "x", eof)) {
			t.Errorf("%q is read as %+v, want %+v", lexer.Print(l), got, token)
		}
	}
	strange(func(s string) {
		check(tag(s))
		check(selfClosing(tag(s, "a", "b")))
		check(end("a" + s))
		check(tag("a", s, "v"))
		check(selfClosing(tag("a", "n", s, s, "v")))
		check(comment(s))
		check(comment("a" + s))
		for _, has := range []bool{false, true} {
			check(api.Token{Kind: api.DoctypeToken, Name: s, HasName: true, HasPublic: has})
			check(api.Token{Kind: api.DoctypeToken, Name: "a", HasName: true, Public: s, HasPublic: true, HasSystem: has})
			check(api.Token{Kind: api.DoctypeToken, Name: "a", HasName: true, System: s, HasPublic: has, HasSystem: true})
		}
	})
}

// P3.5: every character, in lists of many.
func TestCharactersReadBack(t *testing.T) {
	for from := rune(0); from < 0x110000; from += 0x100 {
		var l []api.Token
		for r := from; r < from+0x100; r++ {
			if isPrintable(char(r)) {
				l = append(l, char(r))
			}
		}
		if got := lexer.All(lexer.Print(l), api.DataState, "", false); !same(got, append(l, eof)) {
			t.Errorf("the characters from %x on are read as %+v", from, got)
		}
	}
}

// P3.5: what follows printed tokens is read as it is without them.
func TestReadOn(t *testing.T) {
	behind := []string{"", "lt;", "amp", "\n", "\r\n", "\x00", "\xFF", "\xA9", "<a b=1>", "<", "a", "--", "-->", ">", "/>", "=\"", "'>", "</a", "<![CDATA[a]]>", "&#13"}
	tokens := printableTokens()
	for _, a := range tokens {
		for _, b := range tokens {
			l := []api.Token{a, b}
			for _, rest := range behind {
				for _, cdata := range []bool{false, true} {
					want := append(list(a, b), lexer.All(rest, api.DataState, "a", cdata)...)
					if got := lexer.All(lexer.Print(l)+rest, api.DataState, "a", cdata); !same(got, want) {
						t.Errorf("%q is read as %+v, want %+v", lexer.Print(l)+rest, got, want)
					}
				}
			}
		}
	}
}

// anyInput calls f with many inputs.
func anyInput(f func(b string)) {
	parts := []string{
		"<", ">", "/", "!", "?", "a", "B", "=", "\"", "'", " ", "&", "lt;", "#13;", "#0;", "-", "--", "\x00", "\r", "\u00A0", "\xFF",
		"</a>", "<a ", "<!--", "-->", "<![CDATA[", "]]>", "<!doctype ", "public", "system",
	}
	samples.Joined(parts, 3, f)
	for _, part := range parts {
		f("<a b='1'" + part + "2>" + part)
		f("<a b" + part + "c" + part + "d>")
		f("<!--" + part + "b" + part + "-->")
		f("<!--" + part + part + "->" + part + "-->")
		for _, other := range parts {
			f("<!doctype a public '" + part + "'" + other + ">")
			f("<!doctype a " + part + other + ">")
			f("x" + part + "</a" + other + ">&amp;" + part)
		}
	}
}

// P3.6: what a lexer returns is printable, an end or a doctype with an error;
// printed and read again, it stays the same.
func TestReturnedTokensArePrintable(t *testing.T) {
	anyInput(func(b string) {
		for _, state := range states {
			for _, cdata := range []bool{false, true} {
				all := lexer.All(b, state, "a", cdata)
				stays := true
				for i, token := range all {
					isEnd := token.Kind == api.EOF && i == len(all)-1
					isBroken := token.Kind == api.DoctypeToken && token.Quirks
					if !isEnd && !isBroken && !lexer.Printable(all[i:i+1]) {
						t.Errorf("All(%q, %s, %v): %+v is not printable", b, stateName(state), cdata, token)
					}
					stays = stays && (isEnd || lexer.Printable(all[i:i+1]))
				}
				again := lexer.All(lexer.Print(all[:len(all)-1]), api.DataState, "", cdata)
				if stays && !same(again, all) {
					t.Errorf("All(%q, %s, %v) = %+v is read again as %+v", b, stateName(state), cdata, all, again)
				}
			}
		}
	})
}

// P3.7: how many tokens there are, and where the offset is.
func TestBounds(t *testing.T) {
	anyInput(func(b string) {
		for _, state := range states {
			l := lexer.New(b, state, "a")
			before, count := 0, 0
			for ended := false; !ended; count++ {
				ended = l.Next(count%2 == 0).Kind == api.EOF
				if l.Offset() < before || l.Count() != count+1 {
					t.Errorf("%q in %s: from offset %d to %d, count %d", b, stateName(state), before, l.Offset(), l.Count())
				}
				before = l.Offset()
			}
			input := text.Input(b)
			if count > text.Count(input)+1 || l.Offset() != len(input) {
				t.Errorf("%q in %s: %d tokens, offset %d", b, stateName(state), count, l.Offset())
			}
		}
	})
}

// P3.7: input without markup, and plain text.
func TestCharactersStay(t *testing.T) {
	anyInput(func(b string) {
		input := text.Input(b)
		checkAll(t, b, api.PlaintextState, "a", true, strings.ReplaceAll(input, "\x00", "\uFFFD"))
		if !strings.ContainsAny(input, "<&") {
			checkAll(t, b, api.DataState, "a", true, input)
		}
	})
}

// P3.7: raw content, its end tag, and then data.
func TestRawContentEnds(t *testing.T) {
	anyInput(func(b string) {
		rest := lexer.All(b, api.DataState, "q", true)
		for _, state := range []api.State{api.RCDATAState, api.RAWTEXTState, api.ScriptState} {
			got := lexer.All("1<2</\x00</q>"+b, state, "q", true)
			if !same(got, append(list("1<2</\uFFFD", end("q")), rest...)) {
				t.Errorf("raw content before %q in %s: %+v", b, stateName(state), got)
			}
		}
	})
}
