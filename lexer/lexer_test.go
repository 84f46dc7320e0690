package lexer_test

import (
	"math"
	"testing"

	"thicket/api"
	"thicket/lexer"
)

// P3.1, P3.2: the examples of the chapter.
func TestExamples(t *testing.T) {
	const data = api.DataState
	checkAll(t, "a&lt;b", data, "", false, "a<b")
	checkAll(t, "<A x=1 X=2>&", data, "", false, tag("a", "x", "1"), "&")
	checkAll(t, "</>x<", data, "", false, "x<")
	checkAll(t, "<a", data, "", false)
	checkAll(t, "<p>a</p >b", api.RAWTEXTState, "p", false, "<p>a", end("p"), "b")
	checkAll(t, "<![CDATA[a<]]>b", data, "", true, "a<b")
	checkAll(t, "<![CDATA[a<]]>b", data, "", false, comment("[CDATA[a<]]"), "b")
}

// P3.1: the rules 3, 6, 7 and 8.
func TestData(t *testing.T) {
	const data = api.DataState
	for _, cdata := range []bool{false, true} {
		checkAll(t, "", data, "", cdata)
		checkAll(t, "a\u00E9\u20AC\U0001F600\uFFFD", data, "", cdata, "a\u00E9\u20AC\U0001F600\uFFFD")
		checkAll(t, "\x00a\x00", data, "", cdata, "\x00a\x00")
		checkAll(t, "\r\n\r\ra", data, "", cdata, "\n\n\na")
		checkAll(t, "a\xFFb\xE2\x82", data, "", cdata, "a\uFFFDb\uFFFD")
		checkAll(t, "\uFEFFa", data, "", cdata, "\uFEFFa")
		checkAll(t, ">'\"=/]]>", data, "", cdata, ">'\"=/]]>")
		checkAll(t, "&", data, "", cdata, "&")
		checkAll(t, "&&lt&gt;&x;", data, "", cdata, "&<>&x;")
		checkAll(t, "&notit;&noti", data, "", cdata, "\u00ACit;\u00ACi")
		checkAll(t, "&not=&#13;&#0;&#x80;&#xg", data, "", cdata, "\u00AC=\r\uFFFD\u20AC&#xg")
		checkAll(t, "&NotEqualTilde;a", data, "", cdata, "\u2242\u0338a")
		checkAll(t, "&lt;a&gt;<a>", data, "", cdata, "<a>", tag("a"))
		checkAll(t, "<", data, "", cdata, "<")
		checkAll(t, "</", data, "", cdata, "</")
		checkAll(t, "<<a>", data, "", cdata, "<", tag("a"))
		checkAll(t, "a < b", data, "", cdata, "a < b")
		checkAll(t, "<&amp;", data, "", cdata, "<&")
		checkAll(t, "<1></1>", data, "", cdata, "<1>", comment("1"))
		checkAll(t, "</></>", data, "", cdata)
		checkAll(t, "a<b c='d>", data, "", cdata, "a")
		checkAll(t, "a</b", data, "", cdata, "a")
		checkAll(t, "</B c=d/>e", data, "", cdata, end("b"), "e")
		checkAll(t, "<A B=&lt;&not=\x00 c d=''/>e", data, "", cdata, selfClosing(tag("a", "b", "<&not=\uFFFD", "c", "", "d", "")), "e")
		checkAll(t, "<!-- a --b--><?c?></ d>", data, "", cdata, comment(" a --b"), comment("?c?"), comment(" d"))
		checkAll(t, "<!doctype>", data, "", cdata, api.Token{Kind: api.DoctypeToken, Quirks: true})
		checkAll(t, "<!DOCTYPE HTML>a", data, "", cdata, api.Token{Kind: api.DoctypeToken, Name: "html", HasName: true}, "a")
		checkAll(t, "<!--a", data, "", cdata, comment("a"))
		checkAll(t, "<title>&lt;</title>", data, "", cdata, tag("title"), "<", end("title"))
		checkAll(t, "<script>a<b></script>", data, "", cdata, tag("script"), "a", tag("b"), end("script"))
	}
	checkAll(t, "<![CDATA[]]>", data, "", true)
	checkAll(t, "<![CDATA[]]>a<![CDATA[&lt;\x00\r\n]]]>", data, "", true, "a&lt;\x00\n]")
	checkAll(t, "<![CDATA[a", data, "", true, "a")
	checkAll(t, "<![cdata[a]]>", data, "", true, comment("[cdata[a]]"))
}

// P3.1: the rules 4 and 5.
func TestRawContent(t *testing.T) {
	const raw = "&amp;<b>\x00<!--</b-->"
	checkAll(t, raw, api.RCDATAState, "a", false, "&<b>\uFFFD<!--</b-->")
	checkAll(t, raw, api.RAWTEXTState, "a", false, "&amp;<b>\uFFFD<!--</b-->")
	checkAll(t, raw, api.ScriptState, "a", false, "&amp;<b>\uFFFD<!--</b-->")
	checkAll(t, raw, api.PlaintextState, "a", false, "&amp;<b>\uFFFD<!--</b-->")
	for _, state := range []api.State{api.RCDATAState, api.RAWTEXTState, api.ScriptState} {
		checkAll(t, "", state, "a", true)
		checkAll(t, "x", state, "", true, "x")
		checkAll(t, "</a>", state, "a", true, end("a"))
		checkAll(t, "</A\n>", state, "a", true, end("a"))
		checkAll(t, "x</a/>y", state, "a", true, "x", end("a"), "y")
		checkAll(t, "x</a b='c>' d/>y&lt;", state, "a", true, "x", end("a"), "y<")
		checkAll(t, "x</a></a>", state, "a", true, "x", end("a"), end("a"))
		checkAll(t, "x</a><a>y</a><b>", state, "a", true, "x", end("a"), tag("a"), "y", end("a"), tag("b"))
		checkAll(t, "x</ab></a", state, "a", true, "x</ab></a")
		checkAll(t, "x</a ", state, "a", true, "x")
		checkAll(t, "</a b", state, "a", true)
		checkAll(t, "x</a></a>", state, "A", true, "x</a></a>")
		checkAll(t, "x</>", state, "", true, "x</>")
		checkAll(t, "x</h1>", state, "h1", true, "x</h1>")
		checkAll(t, "<![CDATA[x]]>", state, "a", true, "<![CDATA[x]]>")
		checkAll(t, "\r\n\xFF", state, "a", true, "\n\uFFFD")
	}
	checkAll(t, "&lt;/a></a>&lt;", api.RCDATAState, "a", false, "</a>", end("a"), "<")
	checkAll(t, "<!--<script></script></script><b>", api.ScriptState, "script", false, "<!--<script></script>", end("script"), tag("b"))
	checkAll(t, "<!--<script></script></script><b>", api.RAWTEXTState, "script", false, "<!--<script>", end("script"), end("script"), tag("b"))
	checkAll(t, "</a>&lt;", api.PlaintextState, "a", true, "</a>&lt;")
	checkAll(t, "", api.PlaintextState, "a", true)
}

// P3.1: every value that is no content state counts as api.DataState.
func TestOtherStates(t *testing.T) {
	for _, state := range []api.State{0, -1, 6, 7, 255, 256 + api.RCDATAState, math.MinInt, math.MaxInt} {
		checkAll(t, "&lt;<b></a>", state, "a", false, "<", tag("b"), end("a"))
		l := lexer.New("&lt;<b></a>", state, "a")
		if l.State() != api.DataState {
			t.Errorf("New with %s: %s", stateName(state), stateName(l.State()))
		}
		l.Set(api.RAWTEXTState)
		l.Set(state)
		if l.State() != api.DataState || !lexer.Equal(l.Next(false), char('<')) {
			t.Errorf("Set(%d): %s", int(state), stateName(l.State()))
		}
	}
	for _, state := range states {
		l := lexer.New("", state, "")
		if l.State() != state {
			t.Errorf("New with %s: %s", stateName(state), stateName(l.State()))
		}
		for _, other := range states {
			l.Set(other)
			if l.State() != other {
				t.Errorf("Set to %s: %s", stateName(other), stateName(l.State()))
			}
		}
	}
}

// checkLexer compares what a lexer tells of itself.
func checkLexer(t *testing.T, when string, l *lexer.Lexer, state api.State, last string, offset, count int) {
	t.Helper()
	if l.State() != state || l.Last() != last || l.Offset() != offset || l.Count() != count {
		t.Errorf("%s: %s, last %q, offset %d, count %d; want %s, last %q, offset %d, count %d", when,
			stateName(l.State()), l.Last(), l.Offset(), l.Count(), stateName(state), last, offset, count)
	}
}

// checkNext compares the next tokens of a lexer.
func checkNext(t *testing.T, l *lexer.Lexer, cdata bool, want ...any) {
	t.Helper()
	for i, token := range list(want...) {
		if got := l.Next(cdata); !same([]api.Token{got}, []api.Token{token}) {
			t.Errorf("token %d: %+v, want %+v", i, got, token)
		}
	}
}

// P3.1: the example of the chapter, and what the state does to the queue.
func TestSet(t *testing.T) {
	l := lexer.New("<title>a&amp;</title>b", api.DataState, "x")
	checkLexer(t, "at the start", l, api.DataState, "x", 0, 0)
	checkNext(t, l, false, tag("title"))
	checkLexer(t, "behind the tag", l, api.DataState, "title", 7, 1)
	l.Set(api.RCDATAState)
	checkLexer(t, "after Set", l, api.RCDATAState, "title", 7, 1)
	checkNext(t, l, false, "a")
	checkLexer(t, "within the title", l, api.RCDATAState, "title", 13, 2)

	plain := l.Fork()
	plain.Set(api.PlaintextState)
	checkNext(t, plain, false, "&</title>b", eof)
	checkLexer(t, "at the end of plain text", plain, api.PlaintextState, "title", 22, 13)

	l.Set(api.DataState)
	checkNext(t, l, false, "&", end("title"), "b", eof)
	checkLexer(t, "at the end", l, api.DataState, "title", 22, 6)
}

// P3.1: the last name is that of a start tag, and counts wherever raw content
// is read.
func TestLast(t *testing.T) {
	l := lexer.New("</b><A><!--c--><d></d>e</a></D>", api.DataState, "x")
	checkNext(t, l, false, end("b"))
	checkLexer(t, "behind an end tag", l, api.DataState, "x", 4, 1)
	checkNext(t, l, false, tag("a"), comment("c"))
	checkLexer(t, "behind a comment", l, api.DataState, "a", 15, 3)
	checkNext(t, l, false, tag("d"), end("d"))
	l.Set(api.RAWTEXTState)
	checkNext(t, l, false, "e</a>", end("d"), eof)
	checkLexer(t, "at the end", l, api.DataState, "d", 31, 12)

	lost := lexer.New("a<b", api.DataState, "x")
	checkNext(t, lost, false, "a", eof)
	checkLexer(t, "behind a tag that is lost", lost, api.DataState, "x", 3, 2)

	raw := lexer.New("a</x b", api.ScriptState, "x")
	checkNext(t, raw, false, "a", eof)
	checkLexer(t, "behind an end tag that is lost", raw, api.DataState, "x", 6, 2)
}

// P3.1: rule 1; the end counts once.
func TestEnd(t *testing.T) {
	for _, state := range states {
		l := lexer.New("\u00E9", state, "x")
		checkNext(t, l, false, "\u00E9", eof)
		for range 3 {
			checkLexer(t, "at the end", l, state, "x", 2, 2)
			checkNext(t, l, true, eof)
		}
		l.Set(api.RCDATAState)
		checkNext(t, l.Fork(), false, eof, eof)
		checkNext(t, l, false, eof)
		checkLexer(t, "set at the end", l, api.RCDATAState, "x", 2, 2)
	}
}

// P3.1: CDATA sections are allowed from one token to the next.
func TestCDATA(t *testing.T) {
	l := lexer.New("<![CDATA[a]]><![CDATA[b]]><![CDATA[]]>c", api.DataState, "")
	checkNext(t, l, true, "a")
	checkNext(t, l, false, comment("[CDATA[b]]"))
	checkNext(t, l, true, "c", eof)
}

// P3.1: a fork and the lexer that it was forked from are independent.
func TestFork(t *testing.T) {
	l := lexer.New("<a b=c>x&NotEqualTilde;y</a>", api.DataState, "z")
	unread := l.Fork()
	checkNext(t, l, false, tag("a", "b", "c"), "x\u2242")
	reading := l.Fork()
	checkLexer(t, "the fork", reading, api.DataState, "a", 23, 3)
	checkNext(t, l, false, "\u0338y", end("a"), eof)
	l.Set(api.ScriptState)
	checkLexer(t, "the fork", reading, api.DataState, "a", 23, 3)
	reading.Set(api.PlaintextState)
	checkNext(t, reading, false, "\u0338y</a>", eof)
	checkLexer(t, "the lexer", l, api.ScriptState, "a", 28, 7)
	checkLexer(t, "the unread fork", unread, api.DataState, "z", 0, 0)

	changed := unread.Fork().Next(false)
	changed.Attrs[0].Value = "changed"
	checkNext(t, unread.Fork(), false, tag("a", "b", "c"))
}

// P3.1, P0.1: the zero lexer and the one that does not exist.
func TestZeroAndNil(t *testing.T) {
	var zero lexer.Lexer
	checkLexer(t, "the zero lexer", &zero, api.DataState, "", 0, 0)
	checkLexer(t, "its fork", zero.Fork(), api.DataState, "", 0, 0)
	checkNext(t, &zero, true, eof, eof)
	checkLexer(t, "the zero lexer at its end", &zero, api.DataState, "", 0, 1)

	var none *lexer.Lexer
	none.Set(api.ScriptState)
	checkNext(t, none, true, api.Token{}, api.Token{})
	checkLexer(t, "no lexer", none, 0, "", 0, 0)
	if none.Fork() != nil {
		t.Error("a fork of no lexer")
	}
}
