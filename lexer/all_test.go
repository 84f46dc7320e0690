package lexer_test

import (
	"testing"

	"thicket/api"
	"thicket/lexer"
	"thicket/samples"
)

// P3.2: All and Seq return what Next returns, up to the first end.
func TestAllAndSeq(t *testing.T) {
	parts := []string{"<", "a", ">", "</a>", "&amp;", "&", "<![CDATA[", "]]>", "\r\n", "\xFF", "<a b=c>"}
	samples.Joined(parts, 3, func(b string) {
		for _, state := range append(states, 0, 6) {
			for _, cdata := range []bool{false, true} {
				l := lexer.New(b, state, "a")
				want := []api.Token{l.Next(cdata)}
				for want[len(want)-1].Kind != api.EOF {
					want = append(want, l.Next(cdata))
				}
				if got := lexer.All(b, state, "a", cdata); !same(got, want) {
					t.Errorf("All(%q, %s, %v) = %+v", b, stateName(state), cdata, got)
				}
				var got []api.Token
				for token := range lexer.Seq(b, state, "a", cdata) {
					got = append(got, token)
				}
				if !same(got, want) {
					t.Errorf("Seq(%q, %s, %v): %+v", b, stateName(state), cdata, got)
				}
			}
		}
	})
}

// P3.2: a sequence begins anew each time, also within a loop over itself.
func TestSeqAgain(t *testing.T) {
	seq := lexer.Seq("<a b=c>&NotEqualTilde;", api.DataState, "", false)
	want := list(tag("a", "b", "c"), "\u2242\u0338", eof)
	for stop := range len(want) {
		i := 0
		for token := range seq {
			if !same([]api.Token{token}, want[i:i+1]) {
				t.Errorf("token %d: %+v", i, token)
			}
			if token.Attrs != nil {
				token.Attrs[0].Value = "changed"
			}
			if i == stop {
				break
			}
			i++
		}
	}
	rounds := 0
	for range seq {
		for range seq {
			rounds++
		}
	}
	if rounds != len(want)*len(want) {
		t.Errorf("%d rounds", rounds)
	}
}
