package scan_test

import (
	"regexp"
	"strconv"
	"strings"
	"testing"

	"thicket/samples"
	"thicket/scan"
	"thicket/text"
)

// P2.1: the examples of the chapter, and the cases of its list.
func TestReference(t *testing.T) {
	for _, c := range []struct {
		s         string
		attribute bool
		value     string
		next      int
	}{
		{"notit;", false, "\u00AC", 3},
		{"notit;", true, "&not", 3},
		{"not;=", true, "\u00AC", 4},
		{"x26;", false, "&", 0},
		{"#x26;", false, "&", 5},
		{"#38", false, "&", 3},
		{"#xg", false, "&#x", 2},
		{"#;", false, "&#", 1},
		{"#x80", false, "\u20AC", 4},
		{"", false, "&", 0},
		{"", true, "&", 0},
		{" lt;", false, "&", 0},
		{"&lt;", false, "&", 0},
		{";", false, "&", 0},
		{"\x00", false, "&", 0},
		{"\xFFlt;", false, "&", 0},
		{"not", true, "\u00AC", 3},
		{"not=", true, "&not", 3},
		{"not=", false, "\u00AC", 3},
		{"not0", true, "&not", 3},
		{"notZ", true, "&not", 3},
		{"not-", true, "\u00AC", 3},
		{"not\u00E9", true, "\u00AC", 3},
		{"not\x00", true, "\u00AC", 3},
		{"not;a", true, "\u00AC", 4},
		{"not;;", true, "\u00AC", 4},
		{"bne", false, "&", 0},
		{"bne;", true, "=\u20E5", 4},
		{"AMP", true, "&", 3},
		{"Amp;", true, "&", 0},
		{"1;", false, "&", 0},
		{"#", false, "&#", 1},
		{"# 38;", false, "&#", 1},
		{"#a", false, "&#", 1},
		{"#x", false, "&#x", 2},
		{"#X", true, "&#X", 2},
		{"#X;", true, "&#X", 2},
		{"#xx26;", false, "&#x", 2},
		{"#X26", true, "&", 4},
		{"#38;;", false, "&", 4},
		{"#38a", true, "&", 3},
		{"#38=", true, "&", 3},
		{"#x26g", true, "&", 4},
		{"#x2Aa;", true, "\u02AA", 6},
		{"#0", false, "\uFFFD", 2},
		{"#xD800;", false, "\uFFFD", 7},
		{"#x110000;", false, "\uFFFD", 9},
		{"#99999999999999999999;", false, "\uFFFD", 22},
		{"#13;", false, "\r", 4},
		{"#x1F600;", false, "\U0001F600", 8},
		{"#000000000000000000000000065;", false, "A", 29},
	} {
		if value, next := scan.Reference(c.s, 0, c.attribute); value != c.value || next != c.next {
			t.Errorf("Reference(%q, %v) = %q, %d, want %q, %d", c.s, c.attribute, value, next, c.value, c.next)
		}
	}
}

var (
	hexadecimal = regexp.MustCompile(`^#[xX]([0-9a-fA-F]+);?`)
	decimal     = regexp.MustCompile(`^#([0-9]+);?`)
	numberless  = regexp.MustCompile(`^#[xX]?`)
	goesOn      = regexp.MustCompile(`^[=0-9A-Za-z]`)
)

// referenceByPatterns reads a reference as the list of the chapter says.
func referenceByPatterns(s string, attribute bool) (value string, next int) {
	for base, pattern := range map[int]*regexp.Regexp{16: hexadecimal, 10: decimal} {
		if found := pattern.FindStringSubmatch(s); found != nil {
			code, err := strconv.ParseInt(found[1], base, 32)
			if err != nil {
				code = 0x110000
			}
			return string(text.CodePoint(int(code))), len(found[0])
		}
	}
	if found := numberless.FindString(s); found != "" {
		return "&" + found, len(found)
	}
	for n := len(s); n > 0; n-- {
		value, found := text.Named(s[:n])
		if found != 0 {
			continue
		}
		if attribute && s[n-1] != ';' && goesOn.MatchString(s[n:]) {
			return "&" + s[:n], n
		}
		return value, n
	}
	return "&", 0
}

// P2.1: many references, against the patterns.
func TestReferenceByPatterns(t *testing.T) {
	check := func(s string) {
		for _, attribute := range []bool{false, true} {
			value, next := scan.Reference(s, 0, attribute)
			if want, wantNext := referenceByPatterns(s, attribute); value != want || next != wantNext {
				t.Errorf("Reference(%q, %v) = %q, %d, want %q, %d", s, attribute, value, next, want, wantNext)
			}
		}
	}
	samples.Joined([]string{"#", "x", "X", "0", "9", "a", "F", "g", ";", "=", "not", "in", "amp", "\x00", "\xFF", "&"}, 4, check)
	for _, beginning := range []string{"", "#", "#x", "#X", "#3", "#xA", "#38;", "not", "not;", "notin", "notin;", "AMP", "bne", "bne;"} {
		for _, b := range samples.Bytes() {
			check(beginning + b)
			check(beginning + b + ";")
		}
	}
}

// P2.6: a name that ends with ";" is read as its value, whatever follows.
func TestReferenceNames(t *testing.T) {
	for name, want := range text.Names() {
		behind := append(samples.Bytes(), "", "amp;", ";;", "=a")
		if !strings.HasSuffix(name, ";") {
			behind = []string{"", " ", "<"}
		}
		for _, b := range behind {
			for _, attribute := range []bool{false, true} {
				if value, next := scan.Reference(name+b, 0, attribute); value != want || next != len(name) {
					t.Errorf("Reference(%q, %v) = %q, %d", name+b, attribute, value, next)
				}
			}
		}
	}
}
