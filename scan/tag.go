package scan

import (
	"thicket/api"
	"thicket/text"
)

// Name reads the name of a tag.
func Name(s string, at int) (name string, next int) {
	c := cursorAt(s, at)
	name = text.Lower(kept(c.until(endsName)))
	return name, c.at
}

// Value reads the value of an attribute behind its "=".
func Value(s string, at int) (value string, closed bool, next int) {
	c := cursorAt(s, at)
	c.tookSpaces()
	quote := ""
	if c.sees(isQuote) {
		quote = c.take(1)
		value = c.until(func(r rune) bool { return string(r) == quote })
	} else {
		value = c.until(endsWord)
	}
	if c.ended() {
		return "", false, c.at
	}
	c.took(quote)
	return resolved(value, true), true, c.at
}

// Attributes reads the attributes of a tag and its ">".
func Attributes(s string, at int) (attrs []api.Attr, selfClosing, closed bool, next int) {
	c := cursorAt(s, at)
	seen := map[string]bool{}
	for {
		c.tookSpaces()
		switch {
		case c.ended():
			return nil, false, false, c.at
		case c.took("/>"):
			return attrs, true, true, c.at
		case c.took(">"):
			return attrs, false, true, c.at
		case c.took("/"):
			continue
		}
		attr, complete := c.attribute()
		if complete && !seen[attr.Name] {
			seen[attr.Name] = true
			attrs = append(attrs, attr)
		}
	}
}

// attribute reads the attribute that begins here, and reports whether its value
// is complete. If it is not, everything has been consumed.
func (c *cursor) attribute() (attr api.Attr, complete bool) {
	// A name may begin with "=", but not contain it.
	name := c.take(1) + c.until(func(r rune) bool { return endsName(r) || isEquals(r) })
	attr.Name = text.Lower(kept(name))
	c.tookSpaces()
	if !c.took("=") {
		return attr, true
	}
	attr.Value, complete, c.at = Value(c.s, c.at)
	return attr, complete
}

// Tag reads a tag from its name on.
func Tag(s string, at int, end bool) (t api.Token, closed bool, next int) {
	name, behind := Name(s, at)
	attrs, selfClosing, closed, next := Attributes(s, behind)
	switch {
	case !closed:
		return api.Token{}, false, next
	case end:
		return api.Token{Kind: api.EndTag, Name: name}, true, next
	}
	return api.Token{Kind: api.StartTag, Name: name, Attrs: attrs, SelfClosing: selfClosing}, true, next
}
