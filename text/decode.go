// Package text is layer 1: it turns bytes into normalized input, classifies
// characters, validates names, resolves character references and escapes text.
// See shared/doc/01-text.md.
package text

import (
	"iter"
	"strings"
)

const replacement = "\uFFFD"

// Decode returns the valid string that the bytes of b decode to.
func Decode(b string) string {
	var out strings.Builder
	out.Grow(len(b))
	for piece, complete := range pieces(b) {
		if complete {
			out.WriteString(piece)
		} else {
			out.WriteString(replacement)
		}
	}
	return out.String()
}

// Valid reports whether s is a sequence of complete UTF-8 encodings.
func Valid(s string) bool {
	for _, complete := range pieces(s) {
		if !complete {
			return false
		}
	}
	return true
}

// Newlines returns s with CR LF and CR replaced by LF.
func Newlines(s string) string {
	return strings.ReplaceAll(strings.ReplaceAll(s, "\r\n", "\n"), "\r", "\n")
}

// Input returns Newlines(Decode(b)).
func Input(b string) string {
	return Newlines(Decode(b))
}

// Count returns the number of scalar values of Decode(s).
func Count(s string) int {
	count := 0
	for range pieces(s) {
		count++
	}
	return count
}

// pieces returns a sequence over the parts of b that stand for one scalar
// value each, from the left, and whether each is a complete encoding.
func pieces(b string) iter.Seq2[string, bool] {
	return func(yield func(string, bool) bool) {
		forms := encodings()
		for rest := b; rest != ""; {
			n, complete := measure(rest, forms)
			if !yield(rest[:n], complete) {
				return
			}
			rest = rest[n:]
		}
	}
}

// measure returns the length of the piece that b, which is not empty, begins
// with, and whether it is a complete encoding.
func measure(b string, forms []encoding) (n int, complete bool) {
	for _, form := range forms {
		if !form.first.holds(b[0]) {
			continue
		}
		for i, following := range form.rest {
			at := i + 1
			if at == len(b) || !following.holds(b[at]) {
				return at, false
			}
		}
		return 1 + len(form.rest), true
	}
	return 1, false
}

// span is a range of bytes, both ends included.
type span struct {
	low, high byte
}

func (s span) holds(b byte) bool {
	return s.low <= b && b <= s.high
}

// encoding describes the encodings whose first bytes have the same ranges of
// bytes behind them.
type encoding struct {
	first span
	rest  []span
}

// encodings returns the table of the encodings. Its narrower ranges keep out
// longer encodings than needed, surrogates and numbers above 10FFFF.
func encodings() []encoding {
	tail := span{0x80, 0xBF}
	return []encoding{
		{span{0x00, 0x7F}, nil},
		{span{0xC2, 0xDF}, []span{tail}},
		{span{0xE0, 0xE0}, []span{{0xA0, 0xBF}, tail}},
		{span{0xE1, 0xEC}, []span{tail, tail}},
		{span{0xED, 0xED}, []span{{0x80, 0x9F}, tail}},
		{span{0xEE, 0xEF}, []span{tail, tail}},
		{span{0xF0, 0xF0}, []span{{0x90, 0xBF}, tail, tail}},
		{span{0xF1, 0xF3}, []span{tail, tail, tail}},
		{span{0xF4, 0xF4}, []span{{0x80, 0x8F}, tail, tail}},
	}
}
