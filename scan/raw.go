package scan

import "thicket/text"

// Closes reports whether an end tag for last begins at at.
func Closes(s string, at int, last string) bool {
	c := cursorAt(s, at)
	if last == "" || !c.took("</") {
		return false
	}
	// The whole name is compared, for what may follow it is no letter.
	name := c.until(isNoLetter)
	return len(name) == len(last) && text.Lower(name) == last && c.sees(endsName)
}

func isNoLetter(r rune) bool {
	return !text.IsLetter(r)
}

// RCDATA reads raw text with character references.
func RCDATA(s string, at int, last string) (chars string, next int) {
	c := cursorAt(s, at)
	chars = resolved(c.untilClosed(last), false)
	return chars, c.at
}

// RAWTEXT reads raw text.
func RAWTEXT(s string, at int, last string) (chars string, next int) {
	c := cursorAt(s, at)
	chars = kept(c.untilClosed(last))
	return chars, c.at
}

// Plaintext reads everything.
func Plaintext(s string, at int) (chars string, next int) {
	c := cursorAt(s, at)
	return kept(c.rest()), len(s)
}

// untilClosed consumes everything before the first end tag for last, or before
// the end, and returns it.
func (c *cursor) untilClosed(last string) string {
	from := c.at
	for !c.ended() && !Closes(c.s, c.at, last) {
		c.take(1)
		c.until(isLess)
	}
	return c.s[from:c.at]
}

func isLess(r rune) bool {
	return r == '<'
}
