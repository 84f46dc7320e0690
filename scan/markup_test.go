package scan_test

import (
	"reflect"
	"strings"
	"testing"

	"thicket/api"
	"thicket/samples"
	"thicket/scan"
	"thicket/text"
)

// P2.2: Declaration.
func TestDeclaration(t *testing.T) {
	for _, c := range []struct {
		s     string
		cdata bool
		want  api.Token
		chars string
		next  int
	}{
		{"--a-->b", false, api.Token{Kind: api.CommentToken, Data: "a"}, "", 6},
		{"-->b", false, api.Token{Kind: api.CommentToken}, "", 3},
		{"--", true, api.Token{Kind: api.CommentToken}, "", 2},
		{"-", false, api.Token{Kind: api.CommentToken, Data: "-"}, "", 1},
		{"- ->b", false, api.Token{Kind: api.CommentToken, Data: "- -"}, "", 4},
		{"DOCTYPE html>", false, api.Token{Kind: api.DoctypeToken, Name: "html", HasName: true}, "", 13},
		{"docTYPEhtml>", true, api.Token{Kind: api.DoctypeToken, Name: "html", HasName: true}, "", 12},
		{"doctype", false, api.Token{Kind: api.DoctypeToken, Quirks: true}, "", 7},
		{"doctyp>", false, api.Token{Kind: api.CommentToken, Data: "doctyp"}, "", 7},
		{"d\u00D6ctype>", false, api.Token{Kind: api.CommentToken, Data: "d\u00D6ctype"}, "", 9},
		{" doctype>", false, api.Token{Kind: api.CommentToken, Data: " doctype"}, "", 9},
		{"[CDATA[a>]]>b", true, api.Token{}, "a>", 12},
		{"[CDATA[", true, api.Token{}, "", 7},
		{"[CDATA[a>]]>b", false, api.Token{Kind: api.CommentToken, Data: "[CDATA[a"}, "", 9},
		{"[cdata[a>]]>b", true, api.Token{Kind: api.CommentToken, Data: "[cdata[a"}, "", 9},
		{"[CDATA", true, api.Token{Kind: api.CommentToken, Data: "[CDATA"}, "", 6},
		{"", true, api.Token{Kind: api.CommentToken}, "", 0},
		{">", true, api.Token{Kind: api.CommentToken}, "", 1},
		{"ELEMENT a\x00>", true, api.Token{Kind: api.CommentToken, Data: "ELEMENT a\uFFFD"}, "", 11},
	} {
		got, chars, next := scan.Declaration(c.s, 0, c.cdata)
		if !reflect.DeepEqual(got, c.want) || chars != c.chars || next != c.next {
			t.Errorf("Declaration(%q, %v) = %+v, %q, %d, want %+v, %q, %d", c.s, c.cdata, got, chars, next, c.want, c.chars, c.next)
		}
	}
}

// P2.3: the rows of the table of Markup.
func TestMarkup(t *testing.T) {
	for _, c := range []struct {
		s     string
		want  api.Token
		chars string
		next  int
	}{
		{"/ a>b", api.Token{Kind: api.CommentToken, Data: " a"}, "", 4},
		{"/>b", api.Token{}, "", 2},
		{"3", api.Token{}, "<", 0},
		{"", api.Token{}, "<", 0},
		{"<a>", api.Token{}, "<", 0},
		{" a>", api.Token{}, "<", 0},
		{">", api.Token{}, "<", 0},
		{"\x00a>", api.Token{}, "<", 0},
		{"\u00C9>", api.Token{}, "<", 0},
		{"/", api.Token{}, "</", 1},
		{"//a>", api.Token{Kind: api.CommentToken, Data: "/a"}, "", 4},
		{"/3>", api.Token{Kind: api.CommentToken, Data: "3"}, "", 3},
		{"/\x00", api.Token{Kind: api.CommentToken, Data: "\uFFFD"}, "", 2},
		{"/<a>", api.Token{Kind: api.CommentToken, Data: "<a"}, "", 4},
		{"?xml a='>'?>", api.Token{Kind: api.CommentToken, Data: "?xml a='"}, "", 9},
		{"?", api.Token{Kind: api.CommentToken, Data: "?"}, "", 1},
		{"A b=1/ c/>d", api.Token{Kind: api.StartTag, Name: "a", Attrs: []api.Attr{{Name: "b", Value: "1/"}, {Name: "c"}}, SelfClosing: true}, "", 10},
		{"/A b=1 c/>d", api.Token{Kind: api.EndTag, Name: "a"}, "", 10},
		{"a", api.Token{}, "", 1},
		{"a b='>", api.Token{}, "", 6},
		{"/a", api.Token{}, "", 2},
		{"!--a-->b", api.Token{Kind: api.CommentToken, Data: "a"}, "", 7},
		{"!a>b", api.Token{Kind: api.CommentToken, Data: "a"}, "", 3},
		{"!", api.Token{Kind: api.CommentToken}, "", 1},
		{"!doctype a>b", api.Token{Kind: api.DoctypeToken, Name: "a", HasName: true}, "", 11},
		{"![CDATA[a\x00]]>b", api.Token{}, "a\x00", 13},
	} {
		got, chars, next := scan.Markup(c.s, 0, true)
		if !reflect.DeepEqual(got, c.want) || chars != c.chars || next != c.next {
			t.Errorf("Markup(%q) = %+v, %q, %d, want %+v, %q, %d", c.s, got, chars, next, c.want, c.chars, c.next)
		}
	}
	if got, chars, next := scan.Markup("![CDATA[a]]>", 0, false); got.Data != "[CDATA[a]]" || chars != "" || next != 12 {
		t.Errorf("without CDATA: %+v, %q, %d", got, chars, next)
	}
}

// markupByTable calls what the table of Markup names.
func markupByTable(s string, cdata bool) (t api.Token, chars string, next int) {
	letterAt := func(i int) bool { return i < len(s) && text.IsLetter(rune(s[i])) }
	switch {
	case strings.HasPrefix(s, "!"):
		return scan.Declaration(s, 1, cdata)
	case letterAt(0):
		t, _, next = scan.Tag(s, 0, false)
	case strings.HasPrefix(s, "/") && letterAt(1):
		t, _, next = scan.Tag(s, 1, true)
	case strings.HasPrefix(s, "/>"):
		next = 2
	case s == "/":
		chars, next = "</", 1
	case strings.HasPrefix(s, "/"):
		t.Kind = api.CommentToken
		t.Data, next = scan.Bogus(s, 1)
	case strings.HasPrefix(s, "?"):
		t.Kind = api.CommentToken
		t.Data, next = scan.Bogus(s, 0)
	default:
		chars, next = "<", 0
	}
	return t, chars, next
}

// declarationByList calls what the list of Declaration names.
func declarationByList(s string, cdata bool) (t api.Token, chars string, next int) {
	switch {
	case strings.HasPrefix(s, "--"):
		t.Kind = api.CommentToken
		t.Data, next = scan.Comment(s, 2)
	case len(s) >= 7 && text.Lower(s[:7]) == "doctype":
		t, next = scan.Doctype(s, 7)
	case strings.HasPrefix(s, "[CDATA[") && cdata:
		chars, next = scan.CDATA(s, 7)
	default:
		t.Kind = api.CommentToken
		t.Data, next = scan.Bogus(s, 0)
	}
	return t, chars, next
}

// P2.2, P2.3: Declaration and Markup, against the functions that they name.
func TestMarkupByTable(t *testing.T) {
	check := func(s string) {
		for _, cdata := range []bool{false, true} {
			got, chars, next := scan.Markup(s, 0, cdata)
			if want, wantChars, wantNext := markupByTable(s, cdata); !reflect.DeepEqual(got, want) || chars != wantChars || next != wantNext {
				t.Errorf("Markup(%q, %v) = %+v, %q, %d, want %+v, %q, %d", s, cdata, got, chars, next, want, wantChars, wantNext)
			}
			got, chars, next = scan.Declaration(s, 0, cdata)
			if want, wantChars, wantNext := declarationByList(s, cdata); !reflect.DeepEqual(got, want) || chars != wantChars || next != wantNext {
				t.Errorf("Declaration(%q, %v) = %+v, %q, %d, want %+v, %q, %d", s, cdata, got, chars, next, want, wantChars, wantNext)
			}
		}
	}
	samples.Joined([]string{"!", "/", "?", "--", "-", ">", "a", "Z", "=", "'", " ", "doctype", "DOCTYPE", "[CDATA[", "[cdata[", "]]>", "\x00"}, 4, check)
	samples.Joined(samples.Bytes(), 2, check)
}
