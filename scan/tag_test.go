package scan_test

import (
	"reflect"
	"strings"
	"testing"

	"thicket/api"
	"thicket/samples"
	"thicket/scan"
	"thicket/text"
)

// P2.3: Name.
func TestName(t *testing.T) {
	for _, c := range []struct {
		s, name string
		next    int
	}{
		{"", "", 0},
		{"Br/ >x", "br", 2},
		{"h1>", "h1", 2},
		{"a", "a", 1},
		{">", "", 0},
		{"/a", "", 0},
		{" a", "", 0},
		{"A\tb", "a", 1},
		{"A\nb", "a", 1},
		{"A\fb", "a", 1},
		{"A\rb", "a", 1},
		{"A\vB ", "a\vb", 3},
		{"A\x00Z ", "a\uFFFDz", 3},
		{"a=\"'<&amp;!\u00C9\xFF>", "a=\"'<&amp;!\u00C9\xFF", 14},
	} {
		if name, next := scan.Name(c.s, 0); name != c.name || next != c.next {
			t.Errorf("Name(%q) = %q, %d, want %q, %d", c.s, name, next, c.name, c.next)
		}
	}
	for _, b := range samples.Bytes() {
		s := "X" + b + "Y"
		name, next := scan.Name(s, 0)
		if ends := strings.Contains("\t\n\f\r />", b); ends && (name != "x" || next != 1) || !ends && (name != "x"+lowered(int(b[0]))+"y" || next != 3) {
			t.Errorf("Name(%q) = %q, %d", s, name, next)
		}
	}
}

// P2.3: Value.
func TestValue(t *testing.T) {
	for _, c := range []struct {
		s, value string
		closed   bool
		next     int
	}{
		{"", "", false, 0},
		{"  ", "", false, 2},
		{">", "", true, 0},
		{" \t\n\f\r>", "", true, 5},
		{`""`, "", true, 2},
		{`''>`, "", true, 2},
		{`"a'b>"c`, "a'b>", true, 6},
		{` 'a"b c/' d`, `a"b c/`, true, 9},
		{`"a`, "", false, 2},
		{`'a"`, "", false, 3},
		{`"`, "", false, 1},
		{"a", "", false, 1},
		{"a ", "a", true, 1},
		{"a>", "a", true, 1},
		{"a/>", "a/", true, 2},
		{"/>", "/", true, 1},
		{"a'b\"c<d=e`\u00E9\xFF>", "a'b\"c<d=e`\u00E9\xFF", true, 13},
		{"=>", "=", true, 1},
		{"\x00>", "\uFFFD", true, 1},
		{"'\x00a\x00'", "\uFFFDa\uFFFD", true, 5},
		{"'A\r\n'", "A\r\n", true, 5},
		{"'&lt;&amp;lt;'", "<&lt;", true, 14},
		{"'&ltx&lt=&lt'", "&ltx&lt=<", true, 13},
		{"'&#x22;&#39;&#62;&#32;'", "\"'> ", true, 23},
		{"&#x20;&#x3E;a>", " >a", true, 13},
		{"&>", "&", true, 1},
		{"&&amp;&>", "&&&", true, 7},
		{"&lt >", "<", true, 3},
		{"&lt>", "<", true, 3},
		{"'&lt'=", "<", true, 5},
		{"\"&not\"in;", "\u00AC", true, 6},
		{"&not in;", "\u00AC", true, 4},
		{"&#0;>", "\uFFFD", true, 4},
		{"'&#", "", false, 3},
		{"&amp;", "", false, 5},
	} {
		if value, closed, next := scan.Value(c.s, 0); value != c.value || closed != c.closed || next != c.next {
			t.Errorf("Value(%q) = %q, %v, %d, want %q, %v, %d", c.s, value, closed, next, c.value, c.closed, c.next)
		}
	}
}

// valueByBytes reads a value byte by byte, and a reference where an "&" stands.
func valueByBytes(s string) (value string, closed bool, next int) {
	at := 0
	for at < len(s) && text.IsSpace(rune(s[at])) {
		at++
	}
	quote := ""
	if at < len(s) && (s[at] == '"' || s[at] == '\'') {
		quote = s[at : at+1]
		at++
	}
	for at < len(s) {
		b := s[at]
		switch {
		case quote == string(rune(b)):
			return value, true, at + 1
		case quote == "" && (b == '>' || text.IsSpace(rune(b))):
			return value, true, at
		case b == '&':
			part, behind := scan.Reference(s, at+1, true)
			value += part
			at = behind
		default:
			value += replaced(int(b))
			at++
		}
	}
	return "", false, at
}

// P2.3: many values, against the reader of single bytes.
func TestValueByBytes(t *testing.T) {
	check := func(s string) {
		value, closed, next := scan.Value(s, 0)
		if want, wantClosed, wantNext := valueByBytes(s); value != want || closed != wantClosed || next != wantNext {
			t.Errorf("Value(%q) = %q, %v, %d, want %q, %v, %d", s, value, closed, next, want, wantClosed, wantNext)
		}
	}
	samples.Joined([]string{" ", "\"", "'", ">", "=", "a", "&", "#", "3", "lt", ";", "\x00", "/"}, 5, check)
	for _, b := range samples.Bytes() {
		for _, s := range []string{b + ">", "a" + b + " ", "'" + b + "'", "\"a&lt" + b + "\"", "&lt" + b + ">"} {
			check(s)
		}
	}
}

var attributesTable = []row{
	{"before name", "space", "", ""},
	{"before name", "/ > end", "again", "after name"},
	{"before name", "=", "begin,append", "name"},
	{"before name", "else", "begin,again", "name"},
	{"name", "space / > end", "again", "after name"},
	{"name", "=", "", "before value"},
	{"name", "else", "append", ""},
	{"after name", "space", "", ""},
	{"after name", "/", "", "self-closing"},
	{"after name", "=", "", "before value"},
	{"after name", ">", "closed,done", ""},
	{"after name", "end", "done", ""},
	{"after name", "else", "begin,again", "name"},
	{"before value", "else end", "value,again", "after value"},
	{"after value", "space", "", "before name"},
	{"after value", "/", "", "self-closing"},
	{"after value", ">", "closed,done", ""},
	{"after value", "end", "done", ""},
	{"after value", "else", "again", "before name"},
	{"self-closing", ">", "self-closing,closed,done", ""},
	{"self-closing", "end", "done", ""},
	{"self-closing", "else", "again", "before name"},
}

func attributesByTable(s string) (attrs []api.Attr, selfClosing, closed bool, next int) {
	next = run(attributesTable, s, func(action string, b, at int) (int, string) {
		switch action {
		case "begin":
			attrs = append(attrs, api.Attr{})
		case "append":
			attrs[len(attrs)-1].Name += lowered(b)
		case "closed":
			closed = true
		case "self-closing":
			selfClosing = true
		case "value":
			value, _, behind := valueByBytes(s[at:])
			attrs[len(attrs)-1].Value = value
			return behind, ""
		}
		return 0, ""
	})
	if !closed {
		return nil, false, false, len(s)
	}
	var first []api.Attr
	seen := map[string]bool{}
	for _, attr := range attrs {
		if !seen[attr.Name] {
			first = append(first, attr)
		}
		seen[attr.Name] = true
	}
	return first, selfClosing, true, next
}

func sameAttributes(a, b []api.Attr) bool {
	return len(a) == 0 && len(b) == 0 || reflect.DeepEqual(a, b)
}

// P2.3: the examples of the chapter, and the rows of the table.
func TestAttributes(t *testing.T) {
	type list []api.Attr
	for _, c := range []struct {
		s                   string
		attrs               list
		selfClosing, closed bool
		next                int
	}{
		{" A=1 a=2 b/>", list{{Name: "a", Value: "1"}, {Name: "b"}}, true, true, 12},
		{" =x= y>", list{{Name: "=x", Value: "y"}}, false, true, 7},
		{"a=b/>", list{{Name: "a", Value: "b/"}}, false, true, 5},
		{"", nil, false, false, 0},
		{">", nil, false, true, 1},
		{" >", nil, false, true, 2},
		{"/>", nil, true, true, 2},
		{"/ >", nil, false, true, 3},
		{"//>", nil, true, true, 3},
		{"/", nil, false, false, 1},
		{"/a>", list{{Name: "a"}}, false, true, 3},
		{"/=a>", list{{Name: "=a"}}, false, true, 4},
		{" / =b>", list{{Name: "=b"}}, false, true, 6},
		{"=>", list{{Name: "="}}, false, true, 2},
		{"==>", list{{Name: "="}}, false, true, 3},
		{"===>", list{{Name: "=", Value: "="}}, false, true, 4},
		{"a", nil, false, false, 1},
		{"a ", nil, false, false, 2},
		{"a=", nil, false, false, 2},
		{"a=b", nil, false, false, 3},
		{"a='>", nil, false, false, 4},
		{"a b c", nil, false, false, 5},
		{"a='b'", nil, false, false, 5},
		{"a='b'/", nil, false, false, 6},
		{"a \t\n\f\r= \t\n\f\rb>", list{{Name: "a", Value: "b"}}, false, true, 14},
		{"a=>", list{{Name: "a"}}, false, true, 3},
		{"a= b=c>", list{{Name: "a", Value: "b=c"}}, false, true, 7},
		{"a b=c d>", list{{Name: "a"}, {Name: "b", Value: "c"}, {Name: "d"}}, false, true, 8},
		{"a/b/>", list{{Name: "a"}, {Name: "b"}}, true, true, 5},
		{"a/=b>", list{{Name: "a"}, {Name: "=b"}}, false, true, 5},
		{"a='b'c=\"d\">", list{{Name: "a", Value: "b"}, {Name: "c", Value: "d"}}, false, true, 11},
		{"a='b'=c>", list{{Name: "a", Value: "b"}, {Name: "=c"}}, false, true, 8},
		{"a='b'/>", list{{Name: "a", Value: "b"}}, true, true, 7},
		{"a='b' />", list{{Name: "a", Value: "b"}}, true, true, 8},
		{"'a\"=b>", list{{Name: "'a\"", Value: "b"}}, false, true, 6},
		{"<a&lt;>", list{{Name: "<a&lt;"}}, false, true, 7},
		{"\x00A\x00=\x00>", list{{Name: "\uFFFDa\uFFFD", Value: "\uFFFD"}}, false, true, 6},
		{"\u00C9\xFF>", list{{Name: "\u00C9\xFF"}}, false, true, 4},
		{"a=1 b=2 A=3 B c a>", list{{Name: "a", Value: "1"}, {Name: "b", Value: "2"}, {Name: "c"}}, false, true, 18},
		{"a A=1>", list{{Name: "a"}}, false, true, 6},
		{"\x00 \uFFFD=1>", list{{Name: "\uFFFD"}}, false, true, 8},
	} {
		attrs, selfClosing, closed, next := scan.Attributes(c.s, 0)
		if !sameAttributes(attrs, c.attrs) || selfClosing != c.selfClosing || closed != c.closed || next != c.next {
			t.Errorf("Attributes(%q) = %v, %v, %v, %d, want %v, %v, %v, %d", c.s, attrs, selfClosing, closed, next, c.attrs, c.selfClosing, c.closed, c.next)
		}
	}
}

// P2.3: many attributes, against the table.
func TestAttributesByTable(t *testing.T) {
	check := func(s string) {
		attrs, selfClosing, closed, next := scan.Attributes(s, 0)
		want, wantSelf, wantClosed, wantNext := attributesByTable(s)
		if !sameAttributes(attrs, want) || selfClosing != wantSelf || closed != wantClosed || next != wantNext {
			t.Errorf("Attributes(%q) = %v, %v, %v, %d, want %v, %v, %v, %d", s, attrs, selfClosing, closed, next, want, wantSelf, wantClosed, wantNext)
		}
	}
	samples.Joined([]string{" ", "/", ">", "=", "\"", "'", "a", "A", "b", "&lt", "\x00"}, 5, check)
	samples.Joined([]string{" ", "/", "=", "'", "a"}, 6, func(s string) { check(s + ">") })
	for _, b := range samples.Bytes() {
		for _, beginning := range []string{"", " ", "a", "a ", "a=", "a= ", "a='b'", "a=b ", "/"} {
			check(beginning + b + ">")
		}
	}
}

// P2.3: Tag.
func TestTag(t *testing.T) {
	for _, c := range []struct {
		s      string
		end    bool
		want   api.Token
		closed bool
		next   int
	}{
		{"Br/ >x", false, api.Token{Kind: api.StartTag, Name: "br"}, true, 5},
		{"Br/>x", false, api.Token{Kind: api.StartTag, Name: "br", SelfClosing: true}, true, 4},
		{"a B=1 c>", false, api.Token{Kind: api.StartTag, Name: "a", Attrs: []api.Attr{{Name: "b", Value: "1"}, {Name: "c"}}}, true, 8},
		{"a B=1 c/>", true, api.Token{Kind: api.EndTag, Name: "a"}, true, 9},
		{"A>", true, api.Token{Kind: api.EndTag, Name: "a"}, true, 2},
		{">", false, api.Token{Kind: api.StartTag}, true, 1},
		{">", true, api.Token{Kind: api.EndTag}, true, 1},
		{"/>", false, api.Token{Kind: api.StartTag, SelfClosing: true}, true, 2},
		{" a>", false, api.Token{Kind: api.StartTag, Attrs: []api.Attr{{Name: "a"}}}, true, 3},
		{"", false, api.Token{}, false, 0},
		{"a", false, api.Token{}, false, 1},
		{"a b=c", true, api.Token{}, false, 5},
		{"a b='>", false, api.Token{}, false, 6},
		{"a/", false, api.Token{}, false, 2},
	} {
		got, closed, next := scan.Tag(c.s, 0, c.end)
		if !reflect.DeepEqual(got, c.want) || closed != c.closed || next != c.next {
			t.Errorf("Tag(%q, %v) = %+v, %v, %d, want %+v, %v, %d", c.s, c.end, got, closed, next, c.want, c.closed, c.next)
		}
	}
}

// R4: the attributes of a token are its own.
func TestAttributesAreNew(t *testing.T) {
	const s = "a b=1 c=2>"
	first, _, _ := scan.Tag(s, 0, false)
	first.Attrs[0].Value = "changed"
	second, _, _ := scan.Tag(s, 0, false)
	if second.Attrs[0].Value != "1" {
		t.Errorf("the attributes of two tokens share memory: %v", second.Attrs)
	}
}

// P2.6: an escaped value is read back.
func TestValueRoundTrip(t *testing.T) {
	samples.Joined([]string{"\"", "'", "&", "<", ">", "=", " ", "\n", "\r", "a", "lt;", "amp", "#38;", ";", "\u00A0", "\xC2", "\xA0", "\xFF"}, 4, func(v string) {
		s := "\"" + text.EscapeValue(v) + "\""
		for _, behind := range []string{"", ">", "a=", "\""} {
			if value, closed, next := scan.Value(s+behind, 0); value != v || !closed || next != len(s) {
				t.Errorf("Value(%q) = %q, %v, %d", s+behind, value, closed, next)
			}
		}
	})
	for _, v := range samples.Bytes()[1:] {
		s := "\"" + text.EscapeValue(v+"x") + "\""
		if value, closed, next := scan.Value(s, 0); value != v+"x" || !closed || next != len(s) {
			t.Errorf("Value(%q) = %q, %v, %d", s, value, closed, next)
		}
	}
}
