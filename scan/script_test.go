package scan_test

import (
	"strings"
	"testing"

	"thicket/samples"
	"thicket/scan"
	"thicket/text"
)

// scriptTable has one row for all that may begin with a "<" in a state; its
// action tells them apart.
var scriptTable = []row{
	{"data", "<", "data less,again", ""},
	{"data", "else", "", ""},
	{"escape start", "-", "", "escape start dash"},
	{"escape start", "else end", "again", "data"},
	{"escape start dash", "-", "", "escaped dash dash"},
	{"escape start dash", "else end", "again", "data"},
	{"escaped", "<", "escaped less,again", "escaped"},
	{"escaped", "-", "", "escaped dash"},
	{"escaped", "else", "", ""},
	{"escaped dash", "<", "escaped less,again", "escaped"},
	{"escaped dash", "-", "", "escaped dash dash"},
	{"escaped dash", "else", "", "escaped"},
	{"escaped dash dash", "<", "escaped less,again", "escaped"},
	{"escaped dash dash", "-", "", ""},
	{"escaped dash dash", ">", "", "data"},
	{"escaped dash dash", "else", "", "escaped"},
	{"double start", "space / >", "word ends", ""},
	{"double start", "letter", "word", ""},
	{"double start", "else end", "again", "escaped"},
	{"double escaped", "-", "", "double dash"},
	{"double escaped", "<", "double less,again", "double escaped"},
	{"double escaped", "else", "", ""},
	{"double dash", "-", "", "double dash dash"},
	{"double dash", "<", "double less,again", "double escaped"},
	{"double dash", "else", "", "double escaped"},
	{"double dash dash", "-", "", ""},
	{"double dash dash", ">", "", "data"},
	{"double dash dash", "<", "double less,again", "double escaped"},
	{"double dash dash", "else", "", "double escaped"},
	{"double end", "space / >", "end word ends", ""},
	{"double end", "letter", "word", ""},
	{"double end", "else end", "again", "double escaped"},
	{"stop", "else end", "again,done", ""},
}

// scriptByTable returns where script data stops.
func scriptByTable(s, last string) (next int) {
	word := ""
	return run(scriptTable, s, func(action string, b, at int) (int, string) {
		behind := s[min(at+1, len(s)):]
		switch action {
		case "data less", "escaped less":
			switch {
			case closesByPattern(s[at:], last):
				return 0, "stop"
			case action == "data less" && strings.HasPrefix(behind, "!"):
				return 2, "escape start"
			case action == "escaped less" && behind != "" && text.IsLetter(rune(behind[0])):
				word = ""
				return 1, "double start"
			}
			return 1, ""
		case "double less":
			if strings.HasPrefix(behind, "/") {
				word = ""
				return 2, "double end"
			}
			return 1, ""
		case "word":
			word += lowered(b)
		case "word ends":
			if word == "script" {
				return 0, "double escaped"
			}
			return 0, "escaped"
		case "end word ends":
			if word == "script" {
				return 0, "escaped"
			}
			return 0, "double escaped"
		}
		return 0, ""
	})
}

// P2.4: the examples of the chapter, and texts for the rows of the table. A bar
// shows where script data stops.
func TestScript(t *testing.T) {
	for _, marked := range []string{
		"<!--<script></script>|</script>",
		"<!-->|</script>",
		"|",
		"|</script>",
		"a|</SCRIPT >",
		"</script",
		"</scripts>|</script/>",
		"<--<script>|</script>",
		"--<script>|</script>",
		"<!|</script>",
		"<!-|</script>",
		"<!-x--<script>|</script>",
		"<!--|</script>",
		"<!---|</script>",
		"<!----|</script>",
		"<!--->|</script>",
		"<!---x>|</script>",
		"<!--a-|</script>",
		"<!--a--|</script>",
		"<!--a-->|</script>",
		"<!--a--x<script></script>|</script>",
		"<!--a-<script></script>|</script>",
		"<!--a--<script></script>|</script>",
		"<!--a--><script>|</script>",
		"<!--<SCRIPT/</Script/|</script>",
		"<!--<script\t</script\n|</script>",
		"<!--<scripts>|</script>",
		"<!--<scrip>|</script>",
		"<!--<script|</script>",
		"<!--<script<script></script>|</script>",
		"<!--<b><script></script>|</script>",
		"<!--< script>|</script>",
		"<!--<1><script1>|</script>",
		"<!--<script>-->|</script>",
		"<!--<script>--->|</script>",
		"<!--<script>-</script>|</script>",
		"<!--<script>--</script>|</script>",
		"<!--<script>-x-></script>|</script>",
		"<!--<script>--x></script>|</script>",
		"<!--<script>--</scripts>-->|</script>",
		"<!--<script></scripts></script>|</script>",
		"<!--<script></scrip></script>|</script>",
		"<!--<script></script</script>|</script>",
		"<!--<script></script-</script>|</script>",
		"<!--<script><script></script>|</script>",
		"<!--<script></script>-->|</script>",
		"<!--<script></script><script></script>|</script>",
		"<!--<script></script>--><script>|</script>",
		"<!--<script>",
		"<!--<script>-",
		"<!--<script>--",
		"<!--<script></",
		"<!--<script></script",
		"<!--<script></script>",
		"<!--<scr\u0131pt>|</script>",
		"\x00<!--\x00<script>\x00</script>\x00|</script>",
	} {
		before, behind, _ := strings.Cut(marked, "|")
		chars, next := scan.Script(before+behind, 0, "script")
		if chars != strings.ReplaceAll(before, "\x00", "\uFFFD") || next != len(before) {
			t.Errorf("Script(%q) = %q, %d, want %q, %d", before+behind, chars, next, before, len(before))
		}
	}
	for _, c := range []struct {
		s, last string
		next    int
	}{
		{"<!--<script></a>", "a", 16},
		{"<!--<a></a>", "a", 7},
		{"<!--<script></script></a>", "a", 21},
		{"</script></a>", "a", 9},
		{"</script>", "", 9},
		{"</script>", "SCRIPT", 9},
	} {
		if chars, next := scan.Script(c.s, 0, c.last); chars != c.s[:c.next] || next != c.next {
			t.Errorf("Script(%q, 0, %q) = %q, %d, want %d", c.s, c.last, chars, next, c.next)
		}
	}
}

// P2.4: many texts, against the table.
func TestScriptByTable(t *testing.T) {
	check := func(s, last string) {
		next := scriptByTable(s, last)
		chars := strings.ReplaceAll(s[:next], "\x00", "\uFFFD")
		if got, gotNext := scan.Script(s, 0, last); got != chars || gotNext != next {
			t.Errorf("Script(%q, 0, %q) = %q, %d, want %q, %d", s, last, got, gotNext, chars, next)
		}
	}
	parts := []string{"<", "!", "-", ">", "/", "script", "SCRIPT", "a", " ", "</script>", "<!--"}
	samples.Joined(parts, 4, func(s string) {
		check(s, "script")
		check("<!--"+s, "script")
		check("<!--<script>"+s+"</script>", "script")
		check("<!--<script>"+s, "a")
	})
	samples.Joined([]string{"<", "<!", "<!--", "-", "--", ">", "<script>", "</script>", "a", "<a", "</"}, 5, func(s string) {
		check(s+"</script>", "script")
	})
	for _, beginning := range []string{"", "<", "<!", "<!-", "<!--", "<!--a", "<!--a-", "<!--a--", "<!--<", "<!--<script", "<!--<script>", "<!--<script>-", "<!--<script>--", "<!--<script><", "<!--<script></script"} {
		for _, b := range samples.Bytes() {
			check(beginning+b, "script")
			check(beginning+b+"</script></script>", "script")
		}
	}
}
