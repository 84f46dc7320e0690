package text_test

import (
	"regexp"
	"testing"

	"thicket/samples"
	"thicket/text"
)

// P1.3: the examples of the chapter, and names that are not valid.
func TestValidNames(t *testing.T) {
	for _, c := range []struct {
		name               string
		element, attribute bool
	}{
		{"", false, false},
		{`a"b`, true, true},
		{":x", true, true},
		{`:"x`, false, true},
		{"1a", false, true},
		{"=a", false, false},
		{"a=b", true, false},
		{"div", true, true},
		{"A-b", true, true},
		{"a<'&\"\xFF", true, true},
		{"a b", false, false},
		{"a\tb", false, false},
		{"a\n", false, false},
		{"a\f", false, false},
		{"a\r", false, false},
		{"a\v", true, true},
		{"a\x00b", false, false},
		{"a/b", false, false},
		{"a>", false, false},
		{" a", false, false},
		{"_", true, true},
		{"_-.:_9z", true, true},
		{"_=", false, false},
		{"_ ", false, false},
		{"_\x00", false, false},
		{":\xFFa", true, true},
		{"\u00E9\u4E00-1", true, true},
		{"\x80", true, true},
		{"\xFF<", false, true},
		{"-a", false, true},
		{".a", false, true},
		{"<", false, true},
		{"a\u00A0b", true, true},
	} {
		if got := text.ValidElement(c.name); got != c.element {
			t.Errorf("ValidElement(%q) = %v", c.name, got)
		}
		if got := text.ValidAttribute(c.name); got != c.attribute {
			t.Errorf("ValidAttribute(%q) = %v", c.name, got)
		}
	}
}

// P1.3: every string of one or two bytes, and longer ones.
func TestValidNamesByPattern(t *testing.T) {
	letterFirst := regexp.MustCompile(`^[A-Za-z][^\t\n\f\r \x00/>]*$`)
	otherFirst := regexp.MustCompile(`^[:_\x{80}-\x{10FFFF}][-.:_0-9A-Za-z\x{80}-\x{10FFFF}]*$`)
	attribute := regexp.MustCompile(`^[^\t\n\f\r \x00/=>]+$`)
	check := func(s string) {
		if got, want := text.ValidElement(s), letterFirst.MatchString(s) || otherFirst.MatchString(s); got != want {
			t.Errorf("ValidElement(%q) = %v", s, got)
		}
		if got, want := text.ValidAttribute(s), attribute.MatchString(s); got != want {
			t.Errorf("ValidAttribute(%q) = %v", s, got)
		}
	}
	samples.Joined(samples.Bytes(), 2, check)
	samples.Joined([]string{"a", "Z", "0", ":", "_", "-", ".", "\xC3\xA9", "\x80", "\xFF", "=", "<", ">", "/", "\x00", " ", "\t", "\v"}, 4, check)
}
