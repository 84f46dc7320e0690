package scan_test

import (
	"strings"
	"testing"

	"thicket/samples"
	"thicket/scan"
)

var commentTable = []row{
	{"start", "-", "", "start dash"},
	{"start", ">", "done", ""},
	{"start", "else end", "again", "comment"},
	{"start dash", "-", "", "end"},
	{"start dash", "> end", "done", ""},
	{"start dash", "else", "append -,again", "comment"},
	{"comment", "<", "append", "less"},
	{"comment", "-", "", "end dash"},
	{"comment", "end", "done", ""},
	{"comment", "else", "append", ""},
	{"less", "!", "append", "bang"},
	{"less", "<", "append", ""},
	{"less", "else end", "again", "comment"},
	{"bang", "-", "", "bang dash"},
	{"bang", "else end", "again", "comment"},
	{"bang dash", "-", "", "bang dash dash"},
	{"bang dash", "else end", "again", "end dash"},
	{"bang dash dash", "else end", "again", "end"},
	{"end dash", "-", "", "end"},
	{"end dash", "end", "done", ""},
	{"end dash", "else", "append -,again", "comment"},
	{"end", "> end", "done", ""},
	{"end", "!", "", "end bang"},
	{"end", "-", "append", ""},
	{"end", "else", "append --,again", "comment"},
	{"end bang", "-", "append --!", "end dash"},
	{"end bang", "> end", "done", ""},
	{"end bang", "else", "append --!,again", "comment"},
}

func commentByTable(s string) (data string, next int) {
	next = run(commentTable, s, func(action string, b, at int) (int, string) {
		if action == "append" {
			data += replaced(b)
		} else {
			data += strings.TrimPrefix(action, "append ")
		}
		return 0, ""
	})
	return data, next
}

// P2.2: the examples of the chapter, and one comment for each row of the table.
func TestComment(t *testing.T) {
	for _, c := range []struct {
		s, data string
		next    int
	}{
		{">a", "", 1},
		{"->a", "", 2},
		{"--!>a", "", 4},
		{"a--b-->c", "a--b", 7},
		{"a--->b", "a-", 5},
		{"a--!-", "a--!", 5},
		{"a<!--b-->c", "a<!--b", 9},
		{"", "", 0},
		{"-", "", 1},
		{"--", "", 2},
		{"---", "-", 3},
		{"-->", "", 3},
		{"-a-->", "-a", 5},
		{"a-", "a", 2},
		{"a-b-->", "a-b", 6},
		{"a--", "a", 3},
		{"a--!", "a", 4},
		{"a--!>b", "a", 5},
		{"a--!b-->", "a--!b", 8},
		{"a--!--!>", "a--!", 8},
		{"a--!---->", "a--!--", 9},
		{"a->b-->", "a->b", 7},
		{"a -- > -->", "a -- > ", 10},
		{"<", "<", 1},
		{"<!", "<!", 2},
		{"<!-", "<!", 3},
		{"<!-->", "<!", 5},
		{"<!--->", "<!-", 6},
		{"<<!>-->", "<<!>", 7},
		{"<!->-->", "<!->", 7},
		{"<!-a-->", "<!-a", 7},
		{"\x00-\x00--\x00--!\x00-->", "\uFFFD-\uFFFD--\uFFFD--!\uFFFD", 13},
		{"\xFF\x80\xE2\x82-->", "\xFF\x80\xE2\x82", 7},
	} {
		if data, next := scan.Comment(c.s, 0); data != c.data || next != c.next {
			t.Errorf("Comment(%q) = %q, %d, want %q, %d", c.s, data, next, c.data, c.next)
		}
	}
}

// P2.2: every short comment, against the table.
func TestCommentByTable(t *testing.T) {
	samples.Joined([]string{"-", ">", "!", "<", "a", "\x00"}, 7, func(s string) {
		data, next := scan.Comment(s, 0)
		if wantData, want := commentByTable(s); data != wantData || next != want {
			t.Errorf("Comment(%q) = %q, %d, want %q, %d", s, data, next, wantData, want)
		}
	})
	for _, b := range samples.Bytes() {
		for _, s := range []string{b, "-" + b, "<" + b, "<!" + b, "<!-" + b, "<!--" + b, "a-" + b, "a--" + b, "a--!" + b, b + "-->"} {
			data, next := scan.Comment(s, 0)
			if wantData, want := commentByTable(s); data != wantData || next != want {
				t.Errorf("Comment(%q) = %q, %d, want %q, %d", s, data, next, wantData, want)
			}
		}
	}
}

// P2.2: Bogus.
func TestBogus(t *testing.T) {
	for _, c := range []struct {
		s, data string
		next    int
	}{
		{"", "", 0},
		{">", "", 1},
		{">>", "", 1},
		{"a>b>c", "a", 2},
		{"a", "a", 1},
		{"-->", "--", 3},
		{"\x00a\x00>\x00", "\uFFFDa\uFFFD", 4},
		{"\"'>'", "\"'", 3},
		{"\xFF\xE2\x82>", "\xFF\xE2\x82", 4},
	} {
		if data, next := scan.Bogus(c.s, 0); data != c.data || next != c.next {
			t.Errorf("Bogus(%q) = %q, %d, want %q, %d", c.s, data, next, c.data, c.next)
		}
	}
}

// P2.2: CDATA keeps the bytes 00.
func TestCDATA(t *testing.T) {
	for _, c := range []struct {
		s, chars string
		next     int
	}{
		{"a]]b]]]>c", "a]]b]", 8},
		{"", "", 0},
		{"]]>", "", 3},
		{"]]>]]>", "", 3},
		{"]]", "]]", 2},
		{"a]>b]] >", "a]>b]] >", 8},
		{"<a>&amp;]]>", "<a>&amp;", 11},
		{"\x00]\x00]]>\x00", "\x00]\x00", 6},
		{"\xFF\xE2\x82]]>", "\xFF\xE2\x82", 6},
	} {
		if chars, next := scan.CDATA(c.s, 0); chars != c.chars || next != c.next {
			t.Errorf("CDATA(%q) = %q, %d, want %q, %d", c.s, chars, next, c.chars, c.next)
		}
	}
}
