package scan

import "strings"

// Comment reads a comment behind its "<!--". Of the document's states, those
// behind a "<" are missing, because they append and go on exactly as comment,
// end dash and end do.
func Comment(s string, at int) (data string, next int) {
	c := cursorAt(s, at)
	var out strings.Builder
	keep := keeper(&out)

	// start
	switch {
	case c.took("-"):
		goto startDash
	case c.took(">"):
		goto done
	}
	goto comment

startDash:
	switch {
	case c.took("-"):
		goto end
	case c.took(">"), c.ended():
		goto done
	}
	keep("-")

comment:
	keep(c.until(isDash))
	if c.took("-") {
		goto endDash
	}
	goto done

endDash:
	switch {
	case c.took("-"):
		goto end
	case c.ended():
		goto done
	}
	keep("-")
	goto comment

end:
	switch {
	case c.took(">"), c.ended():
		goto done
	case c.took("!"):
		goto endBang
	case c.took("-"):
		keep("-")
		goto end
	}
	keep("--")
	goto comment

endBang:
	if c.took(">") || c.ended() {
		goto done
	}
	keep("--!")
	goto comment

done:
	return out.String(), c.at
}

func isDash(r rune) bool {
	return r == '-'
}

// Bogus reads a bogus comment.
func Bogus(s string, at int) (data string, next int) {
	c := cursorAt(s, at)
	data = kept(c.upTo(">"))
	return data, c.at
}

// CDATA reads a CDATA section behind its "<![CDATA[".
func CDATA(s string, at int) (chars string, next int) {
	c := cursorAt(s, at)
	chars = c.upTo("]]>")
	return chars, c.at
}
