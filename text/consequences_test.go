package text_test

import (
	"math"
	"strings"
	"testing"
	"unicode/utf8"

	"thicket/api"
	"thicket/samples"
	"thicket/text"
)

// mixed calls f with many strings, valid and not.
func mixed(f func(string)) {
	samples.Joined([]string{
		"a", "Z", "\r", "\n", " ", "\x00", "&", "<", ">", `"`, "amp", "lt;", ";", "\u00E9", "\u00A0", "\uFEFF",
		"\xC2", "\xA0", "\xE2\x82", "\xAC", "\xED\xA0", "\xF0\x9F\x98", "\x80", "\U0001F600", "\xFF",
	}, 3, f)
}

// P1.7: Decode returns a valid string and leaves a valid one unchanged.
func TestDecodedIsValid(t *testing.T) {
	mixed(func(s string) {
		decoded := text.Decode(s)
		if !text.Valid(decoded) || !utf8.ValidString(decoded) {
			t.Errorf("Decode(%q) = %q is not valid", s, decoded)
		}
		if again := text.Decode(decoded); again != decoded {
			t.Errorf("Decode(%q) = %q", decoded, again)
		}
		if text.Valid(s) && decoded != s {
			t.Errorf("Decode(%q) = %q changed a valid string", s, decoded)
		}
		if text.Count(s) != text.Count(decoded) {
			t.Errorf("Count(%q) = %d", s, text.Count(s))
		}
	})
}

// P1.7: what stands behind a valid string is decoded on its own.
func TestDecodeBehindValid(t *testing.T) {
	for _, a := range []string{"", "a", "\u00E9", "\u20AC", "\U0001F600", "\uFFFD", "\r", "a\u00A0\uFEFF"} {
		mixed(func(b string) {
			if got := text.Decode(a + b); got != a+text.Decode(b) {
				t.Errorf("Decode(%q) = %q", a+b, got)
			}
		})
	}
}

// P1.7: Input contains no CR and is stable; it is what its section says.
func TestInputIsStable(t *testing.T) {
	mixed(func(s string) {
		input := text.Input(s)
		if strings.Contains(input, "\r") {
			t.Errorf("Input(%q) = %q contains CR", s, input)
		}
		if again := text.Input(input); again != input {
			t.Errorf("Input(%q) = %q", input, again)
		}
		if input != text.Newlines(text.Decode(s)) {
			t.Errorf("Input(%q) = %q", s, input)
		}
	})
}

// P1.7: Lower does not change the length.
func TestLowerKeepsLength(t *testing.T) {
	mixed(func(s string) {
		lowered := text.Lower(s)
		if len(lowered) != len(s) || text.Lower(lowered) != lowered || !text.EqualFold(s, lowered) {
			t.Errorf("Lower(%q) = %q", s, lowered)
		}
	})
}

// P1.7: Names, Named, Longest and HasPrefix agree.
func TestNamesAreFound(t *testing.T) {
	for name, value := range text.Names() {
		if got, errno := text.Named(name); got != value || errno != api.OK {
			t.Errorf("Named(%q) = %q, %d", name, got, errno)
		}
		if n, got := text.Longest(name); n != len(name) || got != value {
			t.Errorf("Longest(%q) = %d, %q", name, n, got)
		}
		for n := range len(name) + 1 {
			if !text.HasPrefix(name[:n]) {
				t.Errorf("HasPrefix(%q) = false", name[:n])
			}
		}
		if !text.Valid(value) || value == "" {
			t.Errorf("%q has the value %q", name, value)
		}
	}
	mixed(func(s string) {
		n, value := text.Longest(s)
		if n == 0 && value == "" {
			return
		}
		if got, errno := text.Named(s[:n]); got != value || errno != api.OK {
			t.Errorf("Longest(%q) = %d, %q is no name", s, n, value)
		}
	})
}

// P1.7: CodePoint never returns 0 or a surrogate.
func TestCodePointIsScalar(t *testing.T) {
	check := func(code int) {
		if r := text.CodePoint(code); r == 0 || !utf8.ValidRune(r) {
			t.Errorf("CodePoint(%x) = %x", code, r)
		}
	}
	for code := -0x100; code < 0x111000; code++ {
		check(code)
	}
	for shift := range 64 {
		check(1 << shift)
		check(-1 << shift)
		check(1<<shift | 0xD800)
	}
	check(math.MaxInt)
	check(math.MinInt)
}

// P1.7: escaped strings lack what their places exclude, and can be restored.
func TestEscapesAreRestored(t *testing.T) {
	fromText := strings.NewReplacer("&amp;", "&", "&nbsp;", "\u00A0", "&lt;", "<", "&gt;", ">")
	fromValue := strings.NewReplacer("&amp;", "&", "&nbsp;", "\u00A0", "&quot;", `"`)
	mixed(func(s string) {
		escaped := text.EscapeText(s)
		if strings.ContainsAny(escaped, "<>") || fromText.Replace(escaped) != s {
			t.Errorf("EscapeText(%q) = %q", s, escaped)
		}
		escaped = text.EscapeValue(s)
		if strings.Contains(escaped, `"`) || fromValue.Replace(escaped) != s {
			t.Errorf("EscapeValue(%q) = %q", s, escaped)
		}
	})
}
