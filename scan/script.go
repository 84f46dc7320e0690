package scan

import "thicket/text"

// Script reads script data. A state goes on to another one without consuming
// anything if that one does with the next byte what the document says of both.
func Script(s string, at int, last string) (chars string, next int) {
	c := cursorAt(s, at)
	from := c.at

data:
	c.until(isLess)
	switch {
	case c.stops(last):
		goto stop
	case c.took("<!"):
		goto escapeStart
	}
	c.take(1)
	goto data

escapeStart:
	if c.took("-") {
		goto escapeStartDash
	}
	goto data

escapeStartDash:
	if c.took("-") {
		goto escapedDashDash
	}
	goto data

escaped:
	switch {
	case c.stops(last):
		goto stop
	case c.took("-"):
		goto escapedDash
	case c.tookOpening():
		goto doubleStart
	}
	c.take(1)
	goto escaped

escapedDash:
	if c.took("-") {
		goto escapedDashDash
	}
	goto escaped

escapedDashDash:
	switch {
	case c.took("-"):
		goto escapedDashDash
	case c.took(">"):
		goto data
	}
	goto escaped

doubleStart:
	if !c.tookScript() || c.tookDouble() {
		goto escaped
	}
	goto data

stop:
	return kept(s[from:c.at]), c.at
}

// tookDouble reads script data from the state double escaped on, and reports
// whether it comes back to the state escaped. Otherwise it comes to data or to
// the end.
func (c *cursor) tookDouble() bool {
doubleEscaped:
	switch {
	case c.ended():
		return false
	case c.took("-"):
		goto doubleDash
	case c.took("</"):
		goto doubleEnd
	}
	c.take(1)
	goto doubleEscaped

doubleDash:
	if c.took("-") {
		goto doubleDashDash
	}
	goto doubleEscaped

doubleDashDash:
	switch {
	case c.took("-"):
		goto doubleDashDash
	case c.took(">"):
		return false
	}
	goto doubleEscaped

doubleEnd:
	if c.tookScript() {
		return true
	}
	goto doubleEscaped
}

// tookScript reads the letters of a name, and the byte behind them if it ends
// a name, and reports whether this is the name script.
func (c *cursor) tookScript() bool {
	name := c.until(isNoLetter)
	if !c.sees(endsName) {
		return false
	}
	c.take(1)
	return text.EqualFold(name, "script")
}

// tookOpening consumes a "<" if a letter follows it, and reports whether it
// does.
func (c *cursor) tookOpening() bool {
	behind := *c
	if !behind.took("<") || !behind.sees(text.IsLetter) {
		return false
	}
	*c = behind
	return true
}

// stops reports whether script data ends here.
func (c *cursor) stops(last string) bool {
	return c.ended() || Closes(c.s, c.at, last)
}
