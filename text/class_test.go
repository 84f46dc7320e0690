package text_test

import (
	"math"
	"strings"
	"testing"

	"thicket/samples"
	"thicket/text"
)

// P1.2: every rune, and numbers that no rune has.
func TestClasses(t *testing.T) {
	const (
		space = "\t\n\f\r "
		upper = "ABCDEFGHIJKLMNOPQRSTUVWXYZ"
		lower = "abcdefghijklmnopqrstuvwxyz"
		digit = "0123456789"
	)
	classes := []struct {
		name    string
		has     func(rune) bool
		members string
	}{
		{"IsSpace", text.IsSpace, space},
		{"IsUpper", text.IsUpper, upper},
		{"IsLetter", text.IsLetter, upper + lower},
		{"IsDigit", text.IsDigit, digit},
		{"IsHex", text.IsHex, digit + "ABCDEFabcdef"},
		{"IsAlnum", text.IsAlnum, digit + upper + lower},
	}
	check := func(r rune) {
		for _, c := range classes {
			want := 0 <= r && r < 0x80 && strings.IndexByte(c.members, byte(r)) >= 0
			if c.has(r) != want {
				t.Errorf("%s(%d) = %v", c.name, r, !want)
			}
		}
	}
	for r := rune(-0x200); r <= 0x110200; r++ {
		check(r)
	}
	for _, r := range []rune{math.MinInt32, math.MinInt32 + 'A', math.MaxInt32, 1<<30 + ' ', -'a'} {
		check(r)
	}
}

// P1.2: Lower and EqualFold.
func TestLower(t *testing.T) {
	for _, c := range []struct{ in, want string }{
		{"", ""},
		{"AbZ\u00C9", "abz\u00C9"},
		{"@AZ[`az{", "@az[`az{"},
		{"\xFF\xC1A\x80", "\xFF\xC1a\x80"},
		{"\u212A\u0130", "\u212A\u0130"},
		{"A\x00 B-1", "a\x00 b-1"},
	} {
		if got := text.Lower(c.in); got != c.want {
			t.Errorf("Lower(%q) = %q, want %q", c.in, got, c.want)
		}
	}
	for _, s := range samples.Bytes() {
		want := s
		if "A" <= s && s <= "Z" {
			want = strings.ToLower(s)
		}
		if got := text.Lower(s); got != want {
			t.Errorf("Lower(%q) = %q", s, got)
		}
	}
}

func TestEqualFold(t *testing.T) {
	for _, c := range []struct {
		a, b string
		want bool
	}{
		{"", "", true},
		{"", "a", false},
		{"aB", "Ab", true},
		{"ab", "abc", false},
		{"abc", "ab", false},
		{"aBc", "abd", false},
		{"xBc", "ybc", false},
		{"k", "\u212A", false},
		{"s", "\u017F", false},
		{"\u00C9A", "\u00C9a", true},
		{"\u00C9", "\u00E9", false},
		{"\xFF", "\xFE", false},
		{"a\xFF", "A\xFF", true},
	} {
		if got := text.EqualFold(c.a, c.b); got != c.want {
			t.Errorf("EqualFold(%q, %q) = %v", c.a, c.b, got)
		}
	}
	for _, a := range samples.Bytes() {
		for _, b := range samples.Bytes() {
			if got, want := text.EqualFold(a, b), text.Lower(a) == text.Lower(b); got != want {
				t.Errorf("EqualFold(%q, %q) = %v", a, b, got)
			}
		}
	}
}

// P1.2: AllSpace.
func TestAllSpace(t *testing.T) {
	for _, c := range []struct {
		s    string
		want bool
	}{
		{"", true},
		{" ", true},
		{"\t\n\f\r ", true},
		{" a ", false},
		{"a ", false},
		{" a", false},
		{"\v", false},
		{"\x00", false},
		{"\u00A0", false},
		{"\u2003", false},
		{" \xA0", false},
		{" \x85", false},
		{"\xFF", false},
	} {
		if got := text.AllSpace(c.s); got != c.want {
			t.Errorf("AllSpace(%q) = %v", c.s, got)
		}
	}
	for i, s := range samples.Bytes() {
		if got := text.AllSpace(" " + s); got != text.IsSpace(rune(i)) {
			t.Errorf("AllSpace(%q) = %v", " "+s, got)
		}
	}
}
