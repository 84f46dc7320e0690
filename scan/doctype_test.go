package scan_test

import (
	"reflect"
	"testing"

	"thicket/api"
	"thicket/samples"
	"thicket/scan"
	"thicket/text"
)

var doctypeTable = []row{
	{"doctype", "space", "", "before name"},
	{"doctype", "end", "quirks,done", ""},
	{"doctype", "else", "again", "before name"},
	{"before name", "space", "", ""},
	{"before name", "> end", "quirks,done", ""},
	{"before name", "else", "name", "name"},
	{"name", "space", "", "after name"},
	{"name", ">", "done", ""},
	{"name", "end", "quirks,done", ""},
	{"name", "else", "name", ""},
	{"after name", "space", "", ""},
	{"after name", ">", "done", ""},
	{"after name", "end", "quirks,done", ""},
	{"after name", "else", "keyword,again", ""},
	{"after public keyword", "space", "", "before public"},
	{"after public keyword", "\" '", "public", "public identifier"},
	{"after public keyword", "> end", "quirks,done", ""},
	{"after public keyword", "else", "quirks,again", "bogus"},
	{"before public", "space", "", ""},
	{"before public", "\" '", "public", "public identifier"},
	{"before public", "> end", "quirks,done", ""},
	{"before public", "else", "quirks,again", "bogus"},
	{"public identifier", "\" '", "close or append to public", ""},
	{"public identifier", "> end", "quirks,done", ""},
	{"public identifier", "else", "append to public", ""},
	{"after public", "space", "", "between"},
	{"after public", ">", "done", ""},
	{"after public", "\" '", "system", "system identifier"},
	{"after public", "end", "quirks,done", ""},
	{"after public", "else", "quirks,again", "bogus"},
	{"between", "space", "", ""},
	{"between", ">", "done", ""},
	{"between", "\" '", "system", "system identifier"},
	{"between", "end", "quirks,done", ""},
	{"between", "else", "quirks,again", "bogus"},
	{"after system keyword", "space", "", "before system"},
	{"after system keyword", "\" '", "system", "system identifier"},
	{"after system keyword", "> end", "quirks,done", ""},
	{"after system keyword", "else", "quirks,again", "bogus"},
	{"before system", "space", "", ""},
	{"before system", "\" '", "system", "system identifier"},
	{"before system", "> end", "quirks,done", ""},
	{"before system", "else", "quirks,again", "bogus"},
	{"system identifier", "\" '", "close or append to system", ""},
	{"system identifier", "> end", "quirks,done", ""},
	{"system identifier", "else", "append to system", ""},
	{"after system", "space", "", ""},
	{"after system", ">", "done", ""},
	{"after system", "end", "quirks,done", ""},
	{"after system", "else", "again", "bogus"},
	{"bogus", "> end", "done", ""},
	{"bogus", "else", "", ""},
}

func doctypeByTable(s string) (t api.Token, next int) {
	t.Kind = api.DoctypeToken
	quote := -1
	next = run(doctypeTable, s, func(action string, b, at int) (int, string) {
		switch action {
		case "quirks":
			t.Quirks = true
		case "name":
			t.Name += lowered(b)
			t.HasName = true
		case "keyword":
			switch text.Lower(s[at:min(at+6, len(s))]) {
			case "public":
				return 6, "after public keyword"
			case "system":
				return 6, "after system keyword"
			}
			t.Quirks = true
			return 0, "bogus"
		case "public":
			t.HasPublic, quote = true, b
		case "system":
			t.HasSystem, quote = true, b
		case "append to public":
			t.Public += replaced(b)
		case "append to system":
			t.System += replaced(b)
		case "close or append to public":
			if b == quote {
				return 0, "after public"
			}
			t.Public += replaced(b)
		case "close or append to system":
			if b == quote {
				return 0, "after system"
			}
			t.System += replaced(b)
		}
		return 0, ""
	})
	return t, next
}

// P2.2: the examples of the chapter, and declarations for the rows of the table.
func TestDoctype(t *testing.T) {
	for _, c := range []struct {
		s    string
		want api.Token
		next int
	}{
		{" HTML>", api.Token{Name: "html", HasName: true}, 6},
		{` a PUBLIC "x" "y"`, api.Token{Name: "a", HasName: true, Public: "x", HasPublic: true, System: "y", HasSystem: true, Quirks: true}, 17},
		{" a SYSTEM'y' z>", api.Token{Name: "a", HasName: true, System: "y", HasSystem: true}, 15},
		{"", api.Token{Quirks: true}, 0},
		{">", api.Token{Quirks: true}, 1},
		{" \t\n\f\r>", api.Token{Quirks: true}, 6},
		{"x>", api.Token{Name: "x", HasName: true}, 2},
		{" x", api.Token{Name: "x", HasName: true, Quirks: true}, 2},
		{" x ", api.Token{Name: "x", HasName: true, Quirks: true}, 3},
		{" x y>z", api.Token{Name: "x", HasName: true, Quirks: true}, 5},
		{" x publi>", api.Token{Name: "x", HasName: true, Quirks: true}, 9},
		{" x pubLIC>", api.Token{Name: "x", HasName: true, Quirks: true}, 10},
		{" x publicx'y'>", api.Token{Name: "x", HasName: true, Quirks: true}, 14},
		{" x public ''>", api.Token{Name: "x", HasName: true, HasPublic: true}, 13},
		{" x public'", api.Token{Name: "x", HasName: true, HasPublic: true, Quirks: true}, 10},
		{" x public '\">'>", api.Token{Name: "x", HasName: true, HasPublic: true, Public: "\"", Quirks: true}, 13},
		{" x public '\x00A'\"\x00'\"y>", api.Token{Name: "x", HasName: true, HasPublic: true, Public: "\uFFFDA", HasSystem: true, System: "\uFFFD'"}, 20},
		{" x public 'a'b'c'>", api.Token{Name: "x", HasName: true, HasPublic: true, Public: "a", Quirks: true}, 18},
		{" x public 'a' b'c'>", api.Token{Name: "x", HasName: true, HasPublic: true, Public: "a", Quirks: true}, 19},
		{" x system>", api.Token{Name: "x", HasName: true, Quirks: true}, 10},
		{" x system '' '>", api.Token{Name: "x", HasName: true, HasSystem: true}, 15},
		{" x system '' '", api.Token{Name: "x", HasName: true, HasSystem: true}, 14},
		{" x system '' ", api.Token{Name: "x", HasName: true, HasSystem: true, Quirks: true}, 13},
		{" x system 'a' public 'b'>", api.Token{Name: "x", HasName: true, HasSystem: true, System: "a"}, 25},
		{"\x00\xFF/\"=Z>", api.Token{Name: "\uFFFD\xFF/\"=z", HasName: true}, 7},
	} {
		c.want.Kind = api.DoctypeToken
		if got, next := scan.Doctype(c.s, 0); !reflect.DeepEqual(got, c.want) || next != c.next {
			t.Errorf("Doctype(%q) = %+v, %d, want %+v, %d", c.s, got, next, c.want, c.next)
		}
	}
}

// P2.2: many declarations, against the table.
func TestDoctypeByTable(t *testing.T) {
	check := func(s string) {
		got, next := scan.Doctype(s, 0)
		if want, wantNext := doctypeByTable(s); !reflect.DeepEqual(got, want) || next != wantNext {
			t.Errorf("Doctype(%q) = %+v, %d, want %+v, %d", s, got, next, want, wantNext)
		}
	}
	beginnings := []string{"", "n", " n ", " n PUBLIC", " n public ", " n public 'p", " n public 'p'", " n public 'p' ", " n SYSTEM", " n system ", " n system \"s", " n system 's'", " n x"}
	for _, beginning := range beginnings {
		samples.Joined([]string{" ", ">", "\"", "'", "a", "Z", "pUbLiC", "SyStEm", "\x00"}, 4, func(s string) {
			check(beginning + s)
		})
		for _, b := range samples.Bytes() {
			check(beginning + b)
			check(beginning + b + ">")
		}
	}
}
