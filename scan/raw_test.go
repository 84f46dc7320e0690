package scan_test

import (
	"regexp"
	"strings"
	"testing"

	"thicket/samples"
	"thicket/scan"
	"thicket/text"
)

// P2.4: Closes.
func TestCloses(t *testing.T) {
	for _, c := range []struct {
		s    string
		at   int
		last string
		want bool
	}{
		{"</Title/", 0, "title", true},
		{"</h1>", 0, "h1", false},
		{"</title>", 0, "title", true},
		{"</TITLE\t", 0, "title", true},
		{"</title\n", 0, "title", true},
		{"</title\f", 0, "title", true},
		{"</title\r", 0, "title", true},
		{"</title ", 0, "title", true},
		{"</title\v>", 0, "title", false},
		{"</title\x00>", 0, "title", false},
		{"</title", 0, "title", false},
		{"</titlex>", 0, "title", false},
		{"</titl>", 0, "title", false},
		{"</tit>le>", 0, "title", false},
		{"</ title>", 0, "title", false},
		{"<title>", 0, "title", false},
		{"/title>", 0, "title", false},
		{"< /title>", 0, "title", false},
		{"x</title>", 0, "title", false},
		{"x</title>", 1, "title", true},
		{"x</title>", 2, "title", false},
		{"</title>", -1, "title", true},
		{"</title>", 8, "title", false},
		{"</title>", 99, "title", false},
		{"</Title>", 0, "Title", false},
		{"</title>", 0, "TITLE", false},
		{"</>", 0, "", false},
		{"</a>", 0, "", false},
		{"</a >", 0, "a ", false},
		{"</a/>", 0, "a/", false},
		{"</a->", 0, "a-", false},
		{"</\u212A>", 0, "k", false},
		{"</\u212A>", 0, "\u212A", false},
		{"</\u00E9>", 0, "\u00E9", false},
		{"</\xFF>", 0, "\xFF", false},
		{"", 0, "a", false},
		{"", 0, "", false},
	} {
		if got := scan.Closes(c.s, c.at, c.last); got != c.want {
			t.Errorf("Closes(%q, %d, %q) = %v", c.s, c.at, c.last, got)
		}
	}
}

var lowerCase = regexp.MustCompile(`^[a-z]+$`)

// closesByPattern is Closes as its sentence says it.
func closesByPattern(s string, last string) bool {
	if !strings.HasPrefix(s, "</") || !lowerCase.MatchString(last) || len(s) < len(last)+3 {
		return false
	}
	return text.Lower(s[2:2+len(last)]) == last && strings.Contains("\t\n\f\r />", s[2+len(last):3+len(last)])
}

// P2.4: many ends, against the sentence.
func TestClosesByPattern(t *testing.T) {
	check := func(s, last string) {
		if got := scan.Closes(s, 0, last); got != closesByPattern(s, last) {
			t.Errorf("Closes(%q, 0, %q) = %v", s, last, got)
		}
	}
	for _, last := range []string{"", "a", "ab", "A", "aB", "a1", "1", "a>", " ", "a\x00", "\u00E9"} {
		samples.Joined([]string{"<", "/", "a", "A", "b", "1", ">", " ", "\x00", "\xC3"}, 3, func(s string) {
			check(s, last)
			check("</"+s, last)
		})
		for _, b := range samples.Bytes() {
			check("</a"+b, last)
			check("</ab"+b, last)
			check("</"+b+">", last)
		}
	}
	for _, b := range samples.Bytes() {
		check("</"+b+">", b)
		check("</a"+b+">", "a"+b)
	}
}

// P2.4: RCDATA, RAWTEXT and Plaintext.
func TestRawText(t *testing.T) {
	for _, c := range []struct {
		s, last         string
		rcdata, rawtext string
		next            int
	}{
		{"a&lt;</b></a>", "a", "a<</b>", "a&lt;</b>", 9},
		{"", "a", "", "", 0},
		{"</a>", "a", "", "", 0},
		{"</a>", "b", "</a>", "</a>", 4},
		{"</a>", "", "</a>", "</a>", 4},
		{"x</A >", "A", "x</A >", "x</A >", 6},
		{"x</A >", "a", "x", "x", 1},
		{"x</a", "a", "x</a", "x</a", 4},
		{"<</a/", "a", "<", "<", 1},
		{"</</a>", "a", "</", "</", 2},
		{"</ab></a\n", "a", "</ab>", "</ab>", 5},
		{"\x00&\x00</a>", "a", "\uFFFD&\uFFFD", "\uFFFD&\uFFFD", 3},
		{"&#0;&#x41&not=&notit;&", "a", "\uFFFDA\u00AC=\u00ACit;&", "&#0;&#x41&not=&notit;&", 22},
		{"&amp;lt;</a>", "a", "&lt;", "&amp;lt;", 8},
		{"&lt</a>", "a", "<", "&lt", 3},
		{"&</a>", "a", "&", "&", 1},
		{"&#</a>", "a", "&#", "&#", 2},
		{"&#x</a>", "a", "&#x", "&#x", 3},
		{"\xFF\xE2\x82</a>", "a", "\xFF\xE2\x82", "\xFF\xE2\x82", 3},
		{"<!--</a>-->", "a", "<!--", "<!--", 4},
	} {
		if chars, next := scan.RCDATA(c.s, 0, c.last); chars != c.rcdata || next != c.next {
			t.Errorf("RCDATA(%q, 0, %q) = %q, %d, want %q, %d", c.s, c.last, chars, next, c.rcdata, c.next)
		}
		if chars, next := scan.RAWTEXT(c.s, 0, c.last); chars != c.rawtext || next != c.next {
			t.Errorf("RAWTEXT(%q, 0, %q) = %q, %d, want %q, %d", c.s, c.last, chars, next, c.rawtext, c.next)
		}
		if chars, next := scan.Plaintext(c.s, 0); chars != strings.ReplaceAll(c.s, "\x00", "\uFFFD") || next != len(c.s) {
			t.Errorf("Plaintext(%q) = %q, %d", c.s, chars, next)
		}
	}
}

// rawByBytes reads raw text byte by byte, with or without references.
func rawByBytes(s, last string, references bool) (chars string, next int) {
	at := 0
	for at < len(s) && !closesByPattern(s[at:], last) {
		if references && s[at] == '&' {
			value, behind := scan.Reference(s, at+1, false)
			chars += value
			at = behind
			continue
		}
		chars += replaced(int(s[at]))
		at++
	}
	return chars, at
}

// P2.4: many texts, against the reader of single bytes.
func TestRawTextByBytes(t *testing.T) {
	parts := []string{"<", "/", "a", "A", ">", " ", "</a>", "&", "lt", "#60", ";", "\x00"}
	samples.Joined(parts, 4, func(s string) {
		for _, last := range []string{"a", "aa", "A", ""} {
			want, wantNext := rawByBytes(s, last, true)
			if chars, next := scan.RCDATA(s, 0, last); chars != want || next != wantNext {
				t.Errorf("RCDATA(%q, 0, %q) = %q, %d, want %q, %d", s, last, chars, next, want, wantNext)
			}
			want, wantNext = rawByBytes(s, last, false)
			if chars, next := scan.RAWTEXT(s, 0, last); chars != want || next != wantNext {
				t.Errorf("RAWTEXT(%q, 0, %q) = %q, %d, want %q, %d", s, last, chars, next, want, wantNext)
			}
		}
	})
}
