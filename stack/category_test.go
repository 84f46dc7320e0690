package stack_test

import (
	"math"
	"slices"
	"testing"

	"thicket/api"
	"thicket/stack"
)

// P6.1: the categories of the names alone.
func TestNames(t *testing.T) {
	for _, category := range []struct {
		what    string
		program func(string) bool
		list    string
	}{
		{"Formatting", stack.Formatting, formattingNames},
		{"Void", stack.Void, voidNames},
		{"Heading", stack.Heading, headingNames},
		{"ImpliedEnd", stack.ImpliedEnd, impliedNames},
		{"ThoroughEnd", stack.ThoroughEnd, thoroughNames},
	} {
		for _, name := range someNames() {
			if got, want := category.program(name), inList(category.list, name); got != want {
				t.Errorf("%s(%q) = %t", category.what, name, got)
			}
		}
	}
}

// P6.1: the categories of the names in every namespace.
func TestNamesInSpaces(t *testing.T) {
	for _, space := range anySpaces() {
		for _, name := range someNames() {
			isText := space == api.MathML && inList(mathTextNames, name)
			isSVG := space == api.SVG && inList(svgHTMLNames, name)
			isSpecial := space == api.HTML && inList(specialNames, name) || isText || isSVG || space == api.MathML && name == "annotation-xml"
			if got := stack.Special(space, name); got != isSpecial {
				t.Errorf("Special(%d, %q) = %t", space, name, got)
			}
			if got := stack.TextPoint(space, name); got != isText {
				t.Errorf("TextPoint(%d, %q) = %t", space, name, got)
			}
			if got := stack.HTMLPoint(space, name, nil); got != isSVG {
				t.Errorf("HTMLPoint(%d, %q, nil) = %t", space, name, got)
			}
			attrs := []api.Attr{attr(0, "encoding", "text/html")}
			if got, want := stack.HTMLPoint(space, name, attrs), isSVG || space == api.MathML && name == "annotation-xml"; got != want {
				t.Errorf("HTMLPoint(%d, %q, %v) = %t", space, name, attrs, got)
			}
		}
	}
}

// P6.1: how many names the lists have, and some of each.
func TestSomeNames(t *testing.T) {
	for list, want := range map[string]int{specialNames: 83, formattingNames: 14, voidNames: 18, headingNames: 6, impliedNames: 10, thoroughNames: 18, breakoutNames: 44, svgElements: 37, svgAttributes: 58} {
		if got := len(slices.Compact(slices.Sorted(slices.Values(words(list))))); got != want {
			t.Errorf("%d names: %s", got, list)
		}
	}
	for _, name := range words("address search hgroup h1 xmp keygen summary plaintext") {
		is(t, "Special(HTML, "+name+")", stack.Special(api.HTML, name), true)
	}
	for _, name := range words("a span optgroup option ruby svg math annotation-xml mi desc") {
		is(t, "Special(HTML, "+name+")", stack.Special(api.HTML, name), false)
	}
	is(t, "Special(SVG, title)", stack.Special(api.SVG, "title"), true)
	is(t, "Special(SVG, foreignobject)", stack.Special(api.SVG, "foreignobject"), false)
	is(t, "Special(MathML, p)", stack.Special(api.MathML, "p"), false)
	is(t, "Special(Other, p)", stack.Special(api.Other, "p"), false)
	is(t, "Formatting(a)", stack.Formatting("a"), true)
	is(t, "Formatting(nobr)", stack.Formatting("nobr"), true)
	is(t, "Formatting(sub)", stack.Formatting("sub"), false)
	is(t, "Void(br)", stack.Void("br"), true)
	is(t, "Void(BR)", stack.Void("BR"), false)
	is(t, "Void(image)", stack.Void("image"), false)
	is(t, "Heading(h6)", stack.Heading("h6"), true)
	is(t, "Heading(h7)", stack.Heading("h7"), false)
	is(t, "ImpliedEnd(rtc)", stack.ImpliedEnd("rtc"), true)
	is(t, "ImpliedEnd(td)", stack.ImpliedEnd("td"), false)
	is(t, "ThoroughEnd(td)", stack.ThoroughEnd("td"), true)
	is(t, "ThoroughEnd(li)", stack.ThoroughEnd("li"), true)
	is(t, "ThoroughEnd(col)", stack.ThoroughEnd("col"), false)
}

// P6.1: the attributes that make an annotation an HTML integration point.
func TestEncodings(t *testing.T) {
	html, text := attr(0, "encoding", "text/html"), attr(0, "encoding", "text/plain")
	for _, x := range []struct {
		attrs []api.Attr
		want  bool
	}{
		{nil, false}, {[]api.Attr{}, false},
		{[]api.Attr{html}, true}, {[]api.Attr{text}, false}, {[]api.Attr{html, text}, true}, {[]api.Attr{text, html}, false},
		{[]api.Attr{attr(0, "encoding", "TEXT/Html")}, true}, {[]api.Attr{attr(0, "encoding", "application/xhtml+xml")}, true}, {[]api.Attr{attr(0, "encoding", "Application/XHTML+XML")}, true},
		{[]api.Attr{attr(0, "encoding", "")}, false}, {[]api.Attr{attr(0, "encoding", " text/html")}, false}, {[]api.Attr{attr(0, "encoding", "text/html;")}, false},
		{[]api.Attr{attr(0, "encoding", "text/htm")}, false}, {[]api.Attr{attr(0, "encoding", "text/html\x00")}, false}, {[]api.Attr{attr(0, "encoding", "text/xhtml+xml")}, false},
		{[]api.Attr{attr(0, "encoding", "application/html")}, false}, {[]api.Attr{attr(0, "encoding", "text\x0Fhtml")}, false},
		{[]api.Attr{attr(0, "Encoding", "text/html")}, false}, {[]api.Attr{attr(0, "ENCODING", "text/html")}, false}, {[]api.Attr{attr(0, "type", "text/html")}, false},
		{[]api.Attr{attr(0, "Encoding", "text/plain"), html}, true}, {[]api.Attr{attr(0, "type", "text/plain"), html}, true},
		{[]api.Attr{attr(api.XML, "encoding", "text/html")}, false}, {[]api.Attr{attr(api.MathML, "encoding", "text/html")}, false}, {[]api.Attr{attr(api.HTML, "encoding", "text/html")}, false},
		{[]api.Attr{attr(api.XML, "encoding", "text/html"), text}, false}, {[]api.Attr{attr(api.XML, "encoding", "text/plain"), html}, true}, {[]api.Attr{attr(-1, "encoding", "text/html")}, false},
	} {
		if got := stack.HTMLPoint(api.MathML, "annotation-xml", x.attrs); got != x.want {
			t.Errorf("HTMLPoint(MathML, annotation-xml, %v) = %t", x.attrs, got)
		}
		for _, other := range []string{"annotation", "Annotation-XML", "mi", "", "desc", "foreignObject"} {
			if stack.HTMLPoint(api.MathML, other, x.attrs) {
				t.Errorf("HTMLPoint(MathML, %s, %v)", other, x.attrs)
			}
		}
		for _, space := range []api.Space{api.NoSpace, api.HTML, api.SVG, api.Other, -1} {
			if stack.HTMLPoint(space, "annotation-xml", x.attrs) {
				t.Errorf("HTMLPoint(%d, annotation-xml, %v)", space, x.attrs)
			}
		}
		for _, name := range words(svgHTMLNames) {
			if !stack.HTMLPoint(api.SVG, name, x.attrs) {
				t.Errorf("HTMLPoint(SVG, %s, %v) = false", name, x.attrs)
			}
		}
	}
}

// P6.1: tokens of all kinds with all names, with attributes of a font and
// without.
func TestBreakout(t *testing.T) {
	font := [][]api.Attr{{attr(0, "color", "")}, {attr(0, "face", "a")}, {attr(0, "size", "1")}, {attr(0, "id", ""), attr(0, "size", "")}, {attr(0, "face", ""), attr(0, "id", "")}}
	other := [][]api.Attr{nil, {}, {attr(0, "id", "color")}, {attr(0, "Color", "")}, {attr(0, "SIZE", "")}, {attr(0, "", "")}, {attr(0, "faces", ""), attr(0, "colour", "")}}
	for _, kind := range []api.TokenKind{api.DoctypeToken, api.StartTag, api.EndTag, api.CommentToken, api.Char, api.EOF, 0, -1, 7, math.MinInt, math.MaxInt} {
		for _, name := range someNames() {
			byName := kind == api.StartTag && inList(breakoutNames, name) || kind == api.EndTag && (name == "br" || name == "p")
			for _, attrs := range other {
				token := api.Token{Kind: kind, Name: name, Attrs: attrs}
				if got := stack.Breakout(token); got != byName {
					t.Errorf("Breakout(%+v) = %t", token, got)
				}
			}
			for _, attrs := range font {
				token := api.Token{Kind: kind, Name: name, Attrs: attrs, SelfClosing: true}
				if got := stack.Breakout(token); got != (byName || kind == api.StartTag && name == "font") {
					t.Errorf("Breakout(%+v) = %t", token, got)
				}
			}
		}
	}
}
