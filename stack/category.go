package stack

import "thicket/api"

// Special reports whether an element is special.
func Special(space api.Space, name string) bool {
	switch space {
	case api.HTML:
		return isSpecialHTML(name)
	case api.SVG:
		return isSVGPoint(name)
	case api.MathML:
		return name == "annotation-xml" || TextPoint(space, name)
	}
	return false
}

func isSpecialHTML(name string) bool {
	switch name {
	case "address", "applet", "area", "article", "aside", "base", "basefont", "bgsound", "blockquote", "body",
		"br", "button", "caption", "center", "col", "colgroup", "dd", "details", "dir", "div", "dl", "dt",
		"embed", "fieldset", "figcaption", "figure", "footer", "form", "frame", "frameset", "h1", "h2", "h3",
		"h4", "h5", "h6", "head", "header", "hgroup", "hr", "html", "iframe", "img", "input", "keygen", "li",
		"link", "listing", "main", "marquee", "menu", "meta", "nav", "noembed", "noframes", "noscript",
		"object", "ol", "p", "param", "plaintext", "pre", "script", "search", "section", "select", "source",
		"style", "summary", "table", "tbody", "td", "template", "textarea", "tfoot", "th", "thead", "title",
		"tr", "track", "ul", "wbr", "xmp":
		return true
	}
	return false
}

// Formatting reports whether an element is a formatting element.
func Formatting(name string) bool {
	switch name {
	case "a", "b", "big", "code", "em", "font", "i", "nobr", "s", "small", "strike", "strong", "tt", "u":
		return true
	}
	return false
}

// Void reports whether an element is void.
func Void(name string) bool {
	switch name {
	case "area", "base", "basefont", "bgsound", "br", "col", "embed", "frame", "hr", "img", "input", "keygen",
		"link", "meta", "param", "source", "track", "wbr":
		return true
	}
	return false
}

// Heading reports whether an element is a heading.
func Heading(name string) bool {
	switch name {
	case "h1", "h2", "h3", "h4", "h5", "h6":
		return true
	}
	return false
}

// ImpliedEnd reports whether an element has an implied end.
func ImpliedEnd(name string) bool {
	switch name {
	case "dd", "dt", "li", "optgroup", "option", "p", "rb", "rp", "rt", "rtc":
		return true
	}
	return false
}

// ThoroughEnd reports whether an element has a thoroughly implied end.
func ThoroughEnd(name string) bool {
	switch name {
	case "caption", "colgroup", "tbody", "td", "tfoot", "th", "thead", "tr":
		return true
	}
	return ImpliedEnd(name)
}
