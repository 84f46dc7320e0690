package text

import "strings"

// EscapeText returns s escaped for text.
func EscapeText(s string) string {
	s = escapeShared(s)
	s = strings.ReplaceAll(s, "<", "&lt;")
	return strings.ReplaceAll(s, ">", "&gt;")
}

// EscapeValue returns s escaped for a double-quoted attribute value.
func EscapeValue(s string) string {
	return strings.ReplaceAll(escapeShared(s), `"`, "&quot;")
}

// escapeShared replaces what must not stand in texts nor in values. The "&"
// comes first, so that those of the references are not replaced again.
func escapeShared(s string) string {
	s = strings.ReplaceAll(s, "&", "&amp;")
	return strings.ReplaceAll(s, "\u00A0", "&nbsp;")
}
