// Package scan is layer 2: it reads one construct of the markup at a given
// position, such as a tag, a comment or a character reference. See
// shared/doc/02-scan.md.
package scan

import (
	"strings"

	"thicket/text"
)

// cursor is a place in a string, which moves on to the string's end.
type cursor struct {
	s  string
	at int
}

// cursorAt returns a cursor at the offset, or at the end of s that is nearest
// to it.
func cursorAt(s string, at int) cursor {
	return cursor{s, max(0, min(at, len(s)))}
}

func (c *cursor) rest() string {
	return c.s[c.at:]
}

func (c *cursor) ended() bool {
	return c.at == len(c.s)
}

// take consumes the next n bytes and returns them.
func (c *cursor) take(n int) string {
	taken := c.s[c.at : c.at+n]
	c.at += n
	return taken
}

// took consumes the markup if it comes next, and reports whether it does.
func (c *cursor) took(markup string) bool {
	if !strings.HasPrefix(c.rest(), markup) {
		return false
	}
	c.at += len(markup)
	return true
}

// tookFolded is took for a keyword, ignoring case.
func (c *cursor) tookFolded(keyword string) bool {
	n := len(keyword)
	if len(c.rest()) < n || !text.EqualFold(c.rest()[:n], keyword) {
		return false
	}
	c.at += n
	return true
}

// sees reports whether a byte of the class comes next.
func (c *cursor) sees(has func(rune) bool) bool {
	return !c.ended() && has(rune(c.s[c.at]))
}

// until consumes everything before the next byte of a class, or before the end,
// and returns it. The class must have all bytes from 80 to FF or none of them.
func (c *cursor) until(stops func(rune) bool) string {
	n := strings.IndexFunc(c.rest(), stops)
	if n < 0 {
		n = len(c.rest())
	}
	return c.take(n)
}

// upTo consumes everything up to and including the next closing, or everything
// if there is none, and returns what stands before the closing.
func (c *cursor) upTo(closing string) string {
	before, _, _ := strings.Cut(c.rest(), closing)
	c.take(len(before))
	c.took(closing)
	return before
}

// tookSpaces consumes the spaces that come next, and reports whether there are
// any.
func (c *cursor) tookSpaces() bool {
	return c.until(func(r rune) bool { return !text.IsSpace(r) }) != ""
}

// endsName reports whether r ends the name of a tag.
func endsName(r rune) bool {
	return endsWord(r) || r == '/'
}

// endsWord reports whether r ends a value without quotes.
func endsWord(r rune) bool {
	return text.IsSpace(r) || isGreater(r)
}

func isGreater(r rune) bool {
	return r == '>'
}

func isQuote(r rune) bool {
	return r == '"' || r == '\''
}

// keeper returns a function that appends markup to out, with the bytes 00
// replaced, which must not get into a document.
func keeper(out *strings.Builder) func(markup string) {
	return func(markup string) {
		out.WriteString(strings.ReplaceAll(markup, "\x00", "\uFFFD"))
	}
}

// kept returns the markup as a keeper appends it.
func kept(markup string) string {
	var out strings.Builder
	keep := keeper(&out)
	keep(markup)
	return out.String()
}
