package scan

import (
	"strings"

	"thicket/text"
)

// Reference reads a character reference behind its "&".
func Reference(s string, at int, attribute bool) (value string, next int) {
	c := cursorAt(s, at)
	switch {
	case c.sees(text.IsAlnum):
		value = c.named(attribute)
	case c.took("#"):
		value = c.numeric()
	default:
		value = "&"
	}
	return value, c.at
}

// named reads the name of a reference and returns what it stands for.
func (c *cursor) named(attribute bool) string {
	n, value := text.Longest(c.rest())
	if n == 0 {
		return "&"
	}
	name := c.take(n)
	// The values of old documents contain addresses with parameters whose
	// names begin like those of references, such as "?a=1&copy=2".
	if attribute && !strings.HasSuffix(name, ";") && (c.sees(text.IsAlnum) || c.sees(isEquals)) {
		return "&" + name
	}
	return value
}

func isEquals(r rune) bool {
	return r == '='
}

// numeric reads what follows the "#" of a reference and returns what the
// reference stands for.
func (c *cursor) numeric() string {
	opening, base := "&#", 10
	if c.sees(isHexMark) {
		opening, base = opening+c.take(1), 16
	}
	code, n := text.Digits(c.rest(), base)
	if n == 0 {
		return opening
	}
	c.take(n)
	c.took(";")
	return string(text.CodePoint(code))
}

func isHexMark(r rune) bool {
	return r == 'x' || r == 'X'
}

// resolved returns the markup with its references replaced by their values.
// The markup must end where no reference could go on.
func resolved(markup string, attribute bool) string {
	var out strings.Builder
	keep := keeper(&out)
	for {
		before, behind, found := strings.Cut(markup, "&")
		keep(before)
		if !found {
			return out.String()
		}
		value, next := Reference(behind, 0, attribute)
		out.WriteString(value)
		markup = behind[next:]
	}
}
