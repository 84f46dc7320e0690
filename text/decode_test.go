package text_test

import (
	"strings"
	"testing"
	"unicode/utf8"

	"thicket/samples"
	"thicket/text"
)

// P1.1: the examples of the chapter and the rows of its table of encodings.
func TestDecodeExamples(t *testing.T) {
	const bad = "\uFFFD"
	for _, c := range []struct{ in, want string }{
		{"", ""},
		{"plain", "plain"},
		{"\x41\xC3\xA9", "A\u00E9"},
		{"\xE2\x82\x41", bad + "A"},
		{"\xE2\x82", bad},
		{"\xED\xA0\x80", bad + bad + bad},
		{"\xF4\x90\x80\x80", bad + bad + bad + bad},
		{"\xF0\x9F\x98\x41", bad + "A"},
		{"\x00", "\x00"},
		{"\r\n\r", "\r\n\r"},
		{bad, bad},
		{"\xEF\xBB\xBFa", "\uFEFFa"},
		{"a\xEF\xBB\xBF", "a\uFEFF"},
		{"\uFFFE\uFFFF", "\uFFFE\uFFFF"},
		{"\xC3", bad},
		{"\xC3\xC3\xA9", bad + "\u00E9"},
		{"\xE2\x82\xE2\x82\xAC", bad + "\u20AC"},
		{"\xF0\x9F\x98", bad},
		{"\xF0\x9F\xF0\x9F", bad + bad},
		{"\xF0\x8F\xBF\xBF", bad + bad + bad + bad},
		{"\xE0\x9F\xBF", bad + bad + bad},
		{"\xC0\x80\xC1\xBF", bad + bad + bad + bad},
		{"\xED\x9F\xBF\xEE\x80\x80", "\uD7FF\uE000"},
		{"\xF4\x8F\xBF\xBF", "\U0010FFFF"},
		{"\xF5\x80\xFF\xFE", bad + bad + bad + bad},
		{"\x80\xBF", bad + bad},
		{"\u00A9\xA9", "\u00A9" + bad},
	} {
		if got := text.Decode(c.in); got != c.want {
			t.Errorf("Decode(%q) = %q, want %q", c.in, got, c.want)
		}
		if got, want := text.Valid(c.in), c.in == c.want; got != want {
			t.Errorf("Valid(%q) = %v", c.in, got)
		}
		if got, want := text.Count(c.in), len([]rune(c.want)); got != want {
			t.Errorf("Count(%q) = %d, want %d", c.in, got, want)
		}
	}
}

// P1.1: every scalar value is kept.
func TestDecodeScalars(t *testing.T) {
	for r := rune(0); r <= 0x10FFFF; r++ {
		if 0xD800 <= r && r <= 0xDFFF {
			continue
		}
		s := string(r)
		if text.Decode(s) != s || !text.Valid(s) || text.Count(s) != 1 {
			t.Fatalf("U+%04X: Decode %q, Valid %v, Count %d", r, text.Decode(s), text.Valid(s), text.Count(s))
		}
	}
}

// partialEncodings returns the proper beginnings of the encodings.
func partialEncodings() map[string]bool {
	partial := map[string]bool{}
	for r := rune(0x80); r <= 0x10FFFF; r++ {
		if 0xD800 <= r && r <= 0xDFFF {
			continue
		}
		s := string(r)
		for n := 1; n < len(s); n++ {
			partial[s[:n]] = true
		}
	}
	return partial
}

// decodeByList decodes b as the chapter says, with the library's test for
// encodings and a list of the partial ones.
func decodeByList(b string, partial map[string]bool) string {
	var out strings.Builder
search:
	for b != "" {
		for n := 1; n <= min(4, len(b)); n++ {
			if utf8.ValidString(b[:n]) {
				out.WriteString(b[:n])
				b = b[n:]
				continue search
			}
		}
		out.WriteString("\uFFFD")
		n := min(3, len(b))
		for n > 1 && !partial[b[:n]] {
			n--
		}
		b = b[n:]
	}
	return out.String()
}

// P1.1: all short strings of the bytes at which the ranges of the table begin
// or end, or lie beside such a byte, and all strings of two bytes.
func TestDecodeShortStrings(t *testing.T) {
	partial := partialEncodings()
	check := func(s string) {
		want := decodeByList(s, partial)
		if got := text.Decode(s); got != want {
			t.Fatalf("Decode(%q) = %q, want %q", s, got, want)
		}
		if text.Valid(s) != utf8.ValidString(s) {
			t.Fatalf("Valid(%q) = %v", s, text.Valid(s))
		}
		if got := text.Count(s); got != utf8.RuneCountInString(want) {
			t.Fatalf("Count(%q) = %d", s, got)
		}
	}
	ends := "\x00\x41\x7F\x80\x8F\x90\x9F\xA0\xBF\xC0\xC1\xC2\xDF\xE0\xE1\xEC\xED\xEE\xEF\xF0\xF1\xF3\xF4\xF5\xFF"
	var parts []string
	for i := range len(ends) {
		parts = append(parts, ends[i:i+1])
	}
	samples.Joined(parts, 4, check)
	samples.Joined(samples.Bytes(), 2, check)
}

// P1.1: line ends.
func TestNewlines(t *testing.T) {
	for _, c := range []struct{ in, want string }{
		{"", ""},
		{"\r", "\n"},
		{"\n", "\n"},
		{"\r\n", "\n"},
		{"\n\r", "\n\n"},
		{"\r\r", "\n\n"},
		{"\r\r\n", "\n\n"},
		{"\r\n\r\n", "\n\n"},
		{"\r\n\n", "\n\n"},
		{"\x0D\x0A\x0D\x0D", "\n\n\n"},
		{"a\rb\r\nc\nd", "a\nb\nc\nd"},
		{"a\r", "a\n"},
		{"\f\v\u0085\u2028", "\f\v\u0085\u2028"},
		{"\xFF\r\x80", "\xFF\n\x80"},
		{"\\r\\n", "\\r\\n"},
	} {
		if got := text.Newlines(c.in); got != c.want {
			t.Errorf("Newlines(%q) = %q, want %q", c.in, got, c.want)
		}
		if got := text.Input(c.in); got != text.Decode(c.want) {
			t.Errorf("Input(%q) = %q, want %q", c.in, got, text.Decode(c.want))
		}
	}
	if got := text.Input("\xE2\x82\r\n\xEF\xBB\xBF\r"); got != "\uFFFD\n\uFEFF\n" {
		t.Errorf("Input = %q", got)
	}
}

// P0.1 and P1.1: long inputs.
func TestDecodeLong(t *testing.T) {
	in := strings.Repeat("a\u20AC\xF0\x9F\r\n", 1<<16)
	want := strings.Repeat("a\u20AC\uFFFD\n", 1<<16)
	if got := text.Input(in); got != want {
		t.Errorf("Input of %d bytes has %d bytes, want %d", len(in), len(got), len(want))
	}
	if got := text.Count(in); got != 5<<16 {
		t.Errorf("Count = %d", got)
	}
	if text.Valid(in) || !text.Valid(want) {
		t.Error("Valid")
	}
}
