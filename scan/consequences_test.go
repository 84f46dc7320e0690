package scan_test

import (
	"fmt"
	"math"
	"reflect"
	"strings"
	"testing"

	"thicket/samples"
	"thicket/scan"
)

// call is one of the functions, with all its arguments but the string and the
// offset. It returns the results but next in printed form.
type call struct {
	name string
	read func(s string, at int) (result string, next int)
}

func ofString(name string, read func(s string, at int) (string, int)) call {
	return call{name, read}
}

// calls returns the functions that return an offset.
func calls() []call {
	all := []call{
		ofString("Comment", scan.Comment),
		ofString("Bogus", scan.Bogus),
		ofString("CDATA", scan.CDATA),
		ofString("Name", scan.Name),
		ofString("Plaintext", scan.Plaintext),
		{"Doctype", func(s string, at int) (string, int) {
			t, next := scan.Doctype(s, at)
			return fmt.Sprintf("%+v", t), next
		}},
		{"Value", func(s string, at int) (string, int) {
			value, closed, next := scan.Value(s, at)
			return fmt.Sprintf("%q %v", value, closed), next
		}},
		{"Attributes", func(s string, at int) (string, int) {
			attrs, selfClosing, closed, next := scan.Attributes(s, at)
			return fmt.Sprintf("%+v %v %v", attrs, selfClosing, closed), next
		}},
	}
	for _, flag := range []bool{false, true} {
		all = append(all,
			ofString("Reference", func(s string, at int) (string, int) { return scan.Reference(s, at, flag) }),
			call{"Declaration", func(s string, at int) (string, int) {
				t, chars, next := scan.Declaration(s, at, flag)
				return fmt.Sprintf("%+v %q", t, chars), next
			}},
			call{"Markup", func(s string, at int) (string, int) {
				t, chars, next := scan.Markup(s, at, flag)
				return fmt.Sprintf("%+v %q", t, chars), next
			}},
			call{"Tag", func(s string, at int) (string, int) {
				t, closed, next := scan.Tag(s, at, flag)
				return fmt.Sprintf("%+v %v", t, closed), next
			}})
	}
	for _, last := range []string{"a", "script", "", "A"} {
		all = append(all,
			ofString("RCDATA", func(s string, at int) (string, int) { return scan.RCDATA(s, at, last) }),
			ofString("RAWTEXT", func(s string, at int) (string, int) { return scan.RAWTEXT(s, at, last) }),
			ofString("Script", func(s string, at int) (string, int) { return scan.Script(s, at, last) }),
			call{"Closes", func(s string, at int) (string, int) {
				return fmt.Sprint(scan.Closes(s, at, last)), max(0, min(at, len(s)))
			}})
	}
	return all
}

func parts() []string {
	return []string{
		"<", ">", "/", "!", "-", "--", "=", "\"", "'", " ", "&", "#38", "not", ";", "a", "Z", "\x00", "\xC3",
		"script", "</script>", "</a>", "doctype", "[CDATA[", "]]>", " public",
	}
}

// P2.5, P0.1: offsets outside of the string count as its ends, next lies between
// the offset and the end, and what stands before the offset does not count.
func TestOffsets(t *testing.T) {
	all := calls()
	samples.Joined(parts(), 2, func(s string) {
		for _, c := range all {
			result, next := c.read(s, 0)
			if next < 0 || next > len(s) {
				t.Errorf("%s(%q, 0): next is %d", c.name, s, next)
			}
			for _, at := range []int{-1, math.MinInt} {
				if got, gotNext := c.read(s, at); got != result || gotNext != next {
					t.Errorf("%s(%q, %d) = %s, %d, want %s, %d", c.name, s, at, got, gotNext, result, next)
				}
			}
			atEnd, _ := c.read("", 0)
			for _, at := range []int{len(s), len(s) + 1, math.MaxInt} {
				if got, gotNext := c.read(s, at); got != atEnd || gotNext != len(s) {
					t.Errorf("%s(%q, %d) = %s, %d, want %s, %d", c.name, s, at, got, gotNext, atEnd, len(s))
				}
			}
			for _, before := range []string{"x", "&", "<!--", "</", "'", "\xE2", "<script>"} {
				if got, gotNext := c.read(before+s, len(before)); got != result || gotNext != len(before)+next {
					t.Errorf("%s(%q, %d) = %s, %d, want %s, %d", c.name, before+s, len(before), got, gotNext, result, len(before)+next)
				}
			}
		}
	})
}

// P2.5: what is complete stays the same if more bytes follow.
func TestMoreBytes(t *testing.T) {
	same := func(name, s, behind string, got, want []any) {
		if !reflect.DeepEqual(got, want) {
			t.Errorf("%s(%q) = %v, want %v as without %q", name, s+behind, got, want, behind)
		}
	}
	list := func(results ...any) []any { return results }
	behinds := []string{"a", ">", "\"", "-->", "=", " ", "\x00", "]]>", "/>"}
	samples.Joined([]string{" ", ">", "/", "=", "'", "a", "-", "!", "]]", "&lt", "public", "system"}, 4, func(s string) {
		for _, behind := range behinds {
			if t1, closed, next := scan.Tag(s, 0, false); closed {
				same("Tag", s, behind, list(scan.Tag(s+behind, 0, false)), list(t1, closed, next))
			}
			for name, read := range map[string]func(string, int) (string, int){"Comment": scan.Comment, "Bogus": scan.Bogus, "CDATA": scan.CDATA} {
				if data, next := read(s, 0); next < len(s) {
					same(name, s, behind, list(read(s+behind, 0)), list(data, next))
				}
			}
			if t1, next := scan.Doctype(s, 0); next < len(s) {
				same("Doctype", s, behind, list(scan.Doctype(s+behind, 0)), list(t1, next))
			}
		}
	})
}

// P2.5: Script reads at least as far as RAWTEXT, and without bytes 00 the chars
// are what was consumed.
func TestRawTextConsumes(t *testing.T) {
	samples.Joined([]string{"<", "!", "-", "--", ">", "/", "a", "&lt;", "<script>", "</script>", "</a>", "<!--", "\xFF"}, 4, func(s string) {
		for _, last := range []string{"script", "a", ""} {
			raw, rawNext := scan.RAWTEXT(s, 0, last)
			script, scriptNext := scan.Script(s, 0, last)
			plain, plainNext := scan.Plaintext(s, 0)
			if raw != s[:rawNext] || script != s[:scriptNext] || plain != s[:plainNext] || plainNext != len(s) {
				t.Errorf("%q in %q: RAWTEXT %q, Script %q, Plaintext %q", s, last, raw, script, plain)
			}
			if scriptNext < rawNext {
				t.Errorf("%q in %q: Script stops at %d, RAWTEXT at %d", s, last, scriptNext, rawNext)
			}
			if rawNext < len(s) && !scan.Closes(s, rawNext, last) || scriptNext < len(s) && !scan.Closes(s, scriptNext, last) {
				t.Errorf("%q in %q: RAWTEXT stops at %d, Script at %d", s, last, rawNext, scriptNext)
			}
		}
	})
}

// P2.6: a comment is read back.
func TestCommentRoundTrip(t *testing.T) {
	samples.Joined([]string{"-", ">", "!", "<", "a", "--", "<!--", "&lt;", "\xFF", "\r"}, 5, func(data string) {
		if strings.HasPrefix(data, ">") || strings.HasPrefix(data, "->") || strings.Contains(data, "-->") || strings.Contains(data, "--!>") {
			return
		}
		for _, behind := range []string{"", "a", "-->"} {
			if got, next := scan.Comment(data+"-->"+behind, 0); got != data || next != len(data)+3 {
				t.Errorf("Comment(%q) = %q, %d", data+"-->"+behind, got, next)
			}
		}
	})
}

// P0.1: long inputs are read in a time that grows as they do.
func TestLongInputs(t *testing.T) {
	all := calls()
	const n = 1 << 16
	for _, part := range []string{
		"<", "&", "-", "--", "--!", "<!--", "</", "</a", "</script", "<script", " a", " a=", " a='", "/", "=", "&#", "&#x", "&not", "#1", "9", "]]", " ", "\x00",
	} {
		s := strings.Repeat(part, n)
		for _, beginning := range []string{"", "<!--<script>", "doctype a public '"} {
			for _, c := range all {
				if _, next := c.read(beginning+s, 0); next < 0 || next > len(beginning)+len(s) {
					t.Errorf("%s of many %q: next is %d", c.name, part, next)
				}
			}
		}
	}
	last := strings.Repeat("a", n)
	if _, next := scan.RAWTEXT(strings.Repeat("</a", n), 0, last); next != 3*n {
		t.Errorf("RAWTEXT of many ends stops at %d", next)
	}
	if _, next := scan.RAWTEXT("</"+last+">", 0, last); next != 0 {
		t.Errorf("RAWTEXT of a long name stops at %d", next)
	}
	var tag strings.Builder
	for i := range n {
		fmt.Fprintf(&tag, " a%d=%d", i, i)
	}
	if attrs, _, closed, _ := scan.Attributes(tag.String()+" a0>", 0); !closed || len(attrs) != n || attrs[n-1].Name != fmt.Sprintf("a%d", n-1) {
		t.Errorf("%d attributes, %v", len(attrs), closed)
	}
}
