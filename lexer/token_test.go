package lexer_test

import (
	"slices"
	"testing"

	"thicket/api"
	"thicket/lexer"
)

// P3.3: Equal looks at every field.
func TestEqual(t *testing.T) {
	kinds := []api.TokenKind{-1, 0, api.DoctypeToken, api.StartTag, api.EndTag, api.CommentToken, api.Char, api.EOF, 7}
	for _, kind := range kinds {
		for _, other := range kinds {
			if got := lexer.Equal(api.Token{Kind: kind}, api.Token{Kind: other}); got != (kind == other) {
				t.Errorf("kinds %d and %d: %v", kind, other, got)
			}
		}
		for name, set := range setters() {
			plain, changed, again := api.Token{Kind: kind}, api.Token{Kind: kind}, api.Token{Kind: kind}
			set(&changed)
			set(&again)
			if lexer.Equal(plain, changed) || lexer.Equal(changed, plain) {
				t.Errorf("kind %d: %s makes no difference", kind, name)
			}
			if !lexer.Equal(changed, again) {
				t.Errorf("kind %d: equal %s makes a difference", kind, name)
			}
		}
	}
}

// P3.3: Equal compares attributes in their order.
func TestEqualAttributes(t *testing.T) {
	lists := [][]api.Attr{
		nil,
		{{}},
		{{}, {}},
		{{Name: "a"}},
		{{Name: "a", Value: "1"}},
		{{Name: "a", Space: api.XML}},
		{{Name: "a"}, {Name: "b"}},
		{{Name: "b"}, {Name: "a"}},
		{{Name: "a"}, {Name: "a"}},
		{{Name: "A"}},
	}
	for i, a := range lists {
		for j, b := range lists {
			x, y := api.Token{Kind: api.StartTag, Attrs: a}, api.Token{Kind: api.StartTag, Attrs: slices.Clone(b)}
			if got := lexer.Equal(x, y); got != (i == j) {
				t.Errorf("%+v and %+v: %v", a, b, got)
			}
		}
	}
	if !lexer.Equal(api.Token{}, api.Token{Attrs: []api.Attr{}}) || !lexer.Equal(api.Token{Attrs: []api.Attr{}}, api.Token{}) {
		t.Error("no list and an empty one")
	}
}

// P3.3: Attr, whatever the kind of the token and the space of the attribute.
func TestAttr(t *testing.T) {
	token := api.Token{Attrs: []api.Attr{
		{Name: "b", Value: "1", Space: api.XLink},
		{Name: "a", Value: "2"},
		{Name: "b", Value: "3"},
		{Name: "c"},
		{Name: "c", Value: "4"},
		{Name: "", Value: "5"},
	}}
	for kind := api.TokenKind(-1); kind <= api.EOF+1; kind++ {
		token.Kind = kind
		for _, c := range []struct {
			name, value string
			ok          bool
		}{
			{"a", "2", true}, {"b", "1", true}, {"c", "", true}, {"", "5", true}, {"A", "", false}, {"d", "", false}, {"ab", "", false},
		} {
			if value, ok := lexer.Attr(token, c.name); value != c.value || ok != c.ok {
				t.Errorf("kind %d: Attr of %q: %q, %v", kind, c.name, value, ok)
			}
		}
	}
	if value, ok := lexer.Attr(api.Token{}, ""); value != "" || ok {
		t.Errorf("Attr of no attributes: %q, %v", value, ok)
	}
}

// P3.3: Once keeps the first attribute of each name, and its argument.
func TestOnce(t *testing.T) {
	for _, c := range []struct{ attrs, want []api.Attr }{
		{nil, nil},
		{[]api.Attr{}, nil},
		{[]api.Attr{{}}, []api.Attr{{}}},
		{[]api.Attr{{}, {Value: "1"}}, []api.Attr{{}}},
		{[]api.Attr{{Name: "b"}, {Name: "a"}}, []api.Attr{{Name: "b"}, {Name: "a"}}},
		{[]api.Attr{{Name: "a"}, {Name: "A"}}, []api.Attr{{Name: "a"}, {Name: "A"}}},
		{
			[]api.Attr{{Name: "a", Value: "1", Space: api.XML}, {Name: "b"}, {Name: "a", Value: "2"}, {Name: "a", Value: "1", Space: api.XML}, {Name: "c"}, {Name: "b", Value: "3"}},
			[]api.Attr{{Name: "a", Value: "1", Space: api.XML}, {Name: "b"}, {Name: "c"}},
		},
	} {
		before := slices.Clone(c.attrs)
		got := lexer.Once(c.attrs)
		if !slices.Equal(got, c.want) {
			t.Errorf("Once(%+v) = %+v", before, got)
		}
		for i := range got {
			got[i] = api.Attr{Name: "changed"}
		}
		if !slices.Equal(c.attrs, before) {
			t.Errorf("Once(%+v) shares memory with its argument", before)
		}
	}
}

// P3.3: Start and End take any name, and Start any attributes.
func TestTags(t *testing.T) {
	for _, name := range []string{"", "a", "A", "1", "a b", "a\x00>", "\xFF", "\u00E9"} {
		if got := lexer.Start(name); !same([]api.Token{got}, list(api.Token{Kind: api.StartTag, Name: name})) {
			t.Errorf("Start(%q) = %+v", name, got)
		}
		if got := lexer.End(name); !same([]api.Token{got}, list(api.Token{Kind: api.EndTag, Name: name})) {
			t.Errorf("End(%q) = %+v", name, got)
		}
	}
	attrs := []api.Attr{{Name: "B", Value: "\x00"}, {Name: "B", Space: api.XML}, {}}
	want := api.Token{Kind: api.StartTag, Name: "a", Attrs: slices.Clone(attrs)}
	got := lexer.Start("a", attrs...)
	attrs[0].Value = "changed"
	if !same([]api.Token{got}, list(want)) {
		t.Errorf("Start = %+v", got)
	}
	got.Attrs[1].Name = "changed"
	if attrs[1].Name != "B" {
		t.Error("Start shares memory with its argument")
	}
}

// P3.3: Doctype has what is not empty.
func TestDoctype(t *testing.T) {
	for _, name := range []string{"", "a", "A >"} {
		for _, public := range []string{"", "p", "\"'"} {
			for _, system := range []string{"", "s", "\x00\xFF"} {
				want := api.Token{
					Kind: api.DoctypeToken,
					Name: name, HasName: name != "",
					Public: public, HasPublic: public != "",
					System: system, HasSystem: system != "",
				}
				if got := lexer.Doctype(name, public, system); !same([]api.Token{got}, list(want)) {
					t.Errorf("Doctype(%q, %q, %q) = %+v", name, public, system, got)
				}
			}
		}
	}
}

// P3.3: Chars has the scalar values of a string, decoded, but not normalized.
func TestChars(t *testing.T) {
	for _, c := range []struct{ s, want string }{
		{"", ""},
		{"a<&\x00", "a<&\x00"},
		{"&lt;", "&lt;"},
		{"\r\n\r", "\r\n\r"},
		{"\u00E9\u20AC\U0001F600\uFFFD\uFEFF", "\u00E9\u20AC\U0001F600\uFFFD\uFEFF"},
		{"\xFFa\xE2\x82b\xED\xA0\x80", "\uFFFDa\uFFFDb\uFFFD\uFFFD\uFFFD"},
	} {
		if got := lexer.Chars(c.s); !same(got, list(c.want)) {
			t.Errorf("Chars(%q) = %+v", c.s, got)
		}
	}
}
