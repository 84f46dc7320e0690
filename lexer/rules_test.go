package lexer_test

import (
	"testing"

	"thicket/api"
	"thicket/lexer"
	"thicket/samples"
	"thicket/scan"
	"thicket/text"
)

// byRules is a lexer that follows the chapter's rules word for word.
type byRules struct {
	input  string
	offset int
	state  api.State
	last   string
	queue  []rune
	count  int
	ended  bool
}

func newByRules(b string, state api.State, last string) byRules {
	r := byRules{input: text.Input(b), last: last}
	r.set(state)
	return r
}

func (r *byRules) set(state api.State) {
	r.state = api.DataState
	for _, s := range states {
		if s == state {
			r.state = state
		}
	}
}

func (r *byRules) returns(t api.Token) api.Token {
	r.count++
	return t
}

// enqueues is how the rules go on that have read characters.
func (r *byRules) enqueues(chars string, next int, cdata bool) api.Token {
	r.queue = append(r.queue, []rune(chars)...)
	r.offset = next
	return r.next(cdata)
}

func (r *byRules) next(cdata bool) api.Token {
	raw := r.state == api.RCDATAState || r.state == api.RAWTEXTState || r.state == api.ScriptState
	switch {
	case r.ended:
		return eof
	case len(r.queue) > 0:
		first := r.queue[0]
		r.queue = r.queue[1:]
		return r.returns(char(first))
	case r.offset >= len(r.input):
		r.ended = true
		return r.returns(eof)
	case raw && scan.Closes(r.input, r.offset, r.last):
		token, closed, next := scan.Tag(r.input, r.offset+2, true)
		r.offset, r.state = next, api.DataState
		if closed {
			return r.returns(token)
		}
		return r.next(cdata)
	case raw:
		chars, next := scan.RCDATA(r.input, r.offset, r.last)
		switch r.state {
		case api.RAWTEXTState:
			chars, next = scan.RAWTEXT(r.input, r.offset, r.last)
		case api.ScriptState:
			chars, next = scan.Script(r.input, r.offset, r.last)
		}
		return r.enqueues(chars, next, cdata)
	case r.state == api.PlaintextState:
		chars, next := scan.Plaintext(r.input, r.offset)
		return r.enqueues(chars, next, cdata)
	case r.input[r.offset] == '<':
		token, chars, next := scan.Markup(r.input, r.offset+1, cdata)
		if token.Kind == 0 {
			return r.enqueues(chars, next, cdata)
		}
		if token.Kind == api.StartTag {
			r.last = token.Name
		}
		r.offset = next
		return r.returns(token)
	case r.input[r.offset] == '&':
		value, next := scan.Reference(r.input, r.offset+1, false)
		return r.enqueues(value, next, cdata)
	}
	first := []rune(r.input[r.offset:])[0]
	r.offset += len(string(first))
	return r.returns(char(first))
}

// agrees compares the next token of a lexer and what it tells of itself.
func (r *byRules) agrees(l *lexer.Lexer, cdata bool) bool {
	return same([]api.Token{l.Next(cdata)}, []api.Token{r.next(cdata)}) && r.tells(l)
}

func (r *byRules) tells(l *lexer.Lexer) bool {
	return l.State() == r.state && l.Last() == r.last && l.Offset() == r.offset && l.Count() == r.count
}

// agreesAfter compares a lexer with the rules, while calls are made and then
// up to the end. A call is a digit for Set, n or c for Next, or f for Fork.
func agreesAfter(calls, b string, state api.State, last string) bool {
	l, r := lexer.New(b, state, last), newByRules(b, state, last)
	for _, call := range calls {
		switch call {
		case 'n', 'c':
			if !r.agrees(l, call == 'c') {
				return false
			}
		case 'f':
			origin := l
			l = l.Fork()
			origin.Next(true)
			origin.Set(api.PlaintextState)
		default:
			l.Set(api.State(call - '0'))
			r.set(api.State(call - '0'))
		}
		if !r.tells(l) {
			return false
		}
	}
	for cdata := true; !r.ended; cdata = !cdata {
		if !r.agrees(l, cdata) {
			return false
		}
	}
	return r.agrees(l, false) && r.agrees(l, true)
}

// P3.1: every order of calls.
func TestCallsByRules(t *testing.T) {
	inputs := []string{
		"",
		"x&lt;<a>&gt;</a>y",
		"&NotEqualTilde;</a\r\n>&amp</a x",
		"<A b=c>\x00</A><![CDATA[d]]>",
		"<![CDATA[\u00E9]]></b><!--a-->",
		"<script><!--<script></a></script>",
		"</a><b>\xFF</b></",
	}
	for _, b := range inputs {
		samples.Joined([]string{"n", "c", "f", "0", "1", "2", "3", "4", "5"}, 4, func(calls string) {
			if !agreesAfter(calls, b, api.DataState, "a") {
				t.Errorf("the calls %q with the input %q", calls, b)
			}
		})
	}
}

// P3.1: every input, in every state.
func TestInputsByRules(t *testing.T) {
	parts := []string{
		"<", ">", "/", "!", "a", "B", "=", "\"", " ", "&", "lt;", "#13;", "--", "\x00", "\r", "\u00E9", "\xFF",
		"</a>", "</A ", "<a ", "<!--", "-->", "<![CDATA[", "]]>", "<!doctype ",
	}
	samples.Joined(parts, 3, func(b string) {
		for _, state := range states {
			if !agreesAfter("", b, state, "a") {
				t.Errorf("the input %q in %s", b, stateName(state))
			}
		}
	})
}
