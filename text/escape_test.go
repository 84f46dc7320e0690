package text_test

import (
	"testing"

	"thicket/samples"
	"thicket/text"
)

// P1.6: the examples of the chapter, what is replaced once only, and what is kept.
func TestEscapes(t *testing.T) {
	for _, c := range []struct{ in, text, value string }{
		{"", "", ""},
		{"plain", "plain", "plain"},
		{`a<"&>`, `a&lt;"&amp;&gt;`, `a<&quot;&amp;>`},
		{"&amp;", "&amp;amp;", "&amp;amp;"},
		{"&lt;&nbsp;&quot;", "&amp;lt;&amp;nbsp;&amp;quot;", "&amp;lt;&amp;nbsp;&amp;quot;"},
		{"&&", "&amp;&amp;", "&amp;&amp;"},
		{"\u00A0\xC2\xA0", "&nbsp;&nbsp;", "&nbsp;&nbsp;"},
		{"\xC2\xA0\xA0", "&nbsp;\xA0", "&nbsp;\xA0"},
		{"\xC2\xC2\xA0", "\xC2&nbsp;", "\xC2&nbsp;"},
		{"\xC2\xA0\xC2", "&nbsp;\xC2", "&nbsp;\xC2"},
		{"\xC2&\xA0", "\xC2&amp;\xA0", "\xC2&amp;\xA0"},
		{"\xC2", "\xC2", "\xC2"},
		{"\xA0", "\xA0", "\xA0"},
		{"\u00A1\u2003", "\u00A1\u2003", "\u00A1\u2003"},
		{"<>", "&lt;&gt;", "<>"},
		{`""`, `""`, `&quot;&quot;`},
		{"'\x00\r\n\t`=/", "'\x00\r\n\t`=/", "'\x00\r\n\t`=/"},
		{"\xFF<\x80", "\xFF&lt;\x80", "\xFF<\x80"},
	} {
		if got := text.EscapeText(c.in); got != c.text {
			t.Errorf("EscapeText(%q) = %q, want %q", c.in, got, c.text)
		}
		if got := text.EscapeValue(c.in); got != c.value {
			t.Errorf("EscapeValue(%q) = %q, want %q", c.in, got, c.value)
		}
	}
}

// P1.6: every string of two bytes.
func TestEscapesOfBytes(t *testing.T) {
	escape := func(s string, other map[string]string) string {
		if s == "\xC2\xA0" {
			return "&nbsp;"
		}
		out := ""
		for i := range len(s) {
			b := s[i : i+1]
			if b == "&" {
				b = "&amp;"
			} else if by, replaced := other[b]; replaced {
				b = by
			}
			out += b
		}
		return out
	}
	inText := map[string]string{"<": "&lt;", ">": "&gt;"}
	inValue := map[string]string{`"`: "&quot;"}
	samples.Joined(samples.Bytes(), 2, func(s string) {
		if got := text.EscapeText(s); got != escape(s, inText) {
			t.Errorf("EscapeText(%q) = %q", s, got)
		}
		if got := text.EscapeValue(s); got != escape(s, inValue) {
			t.Errorf("EscapeValue(%q) = %q", s, got)
		}
	})
}
