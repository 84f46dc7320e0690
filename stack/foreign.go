package stack

import (
	"slices"

	"thicket/api"
	"thicket/text"
)

// TextPoint reports whether an element is a text integration point.
func TextPoint(space api.Space, name string) bool {
	if space != api.MathML {
		return false
	}
	switch name {
	case "mi", "mn", "mo", "ms", "mtext":
		return true
	}
	return false
}

// HTMLPoint reports whether an element is an HTML integration point.
func HTMLPoint(space api.Space, name string, attrs []api.Attr) bool {
	switch space {
	case api.SVG:
		return isSVGPoint(name)
	case api.MathML:
		return name == "annotation-xml" && hasHTMLEncoding(attrs)
	}
	return false
}

func isSVGPoint(name string) bool {
	return name == "desc" || name == "foreignObject" || name == "title"
}

func hasHTMLEncoding(attrs []api.Attr) bool {
	for _, attr := range attrs {
		if attr.Space == api.NoSpace && attr.Name == "encoding" {
			return isOneOf(attr.Value, "text/html", "application/xhtml+xml")
		}
	}
	return false
}

// Breakout reports whether a token is a breakout token.
func Breakout(t api.Token) bool {
	switch t.Kind {
	case api.StartTag:
		return isBreakout(t.Name) || t.Name == "font" && slices.ContainsFunc(t.Attrs, isFontAttribute)
	case api.EndTag:
		return t.Name == "br" || t.Name == "p"
	}
	return false
}

func isBreakout(name string) bool {
	switch name {
	case "b", "big", "blockquote", "body", "br", "center", "code", "dd", "div", "dl", "dt", "em", "embed",
		"h1", "h2", "h3", "h4", "h5", "h6", "head", "hr", "i", "img", "li", "listing", "menu", "meta", "nobr",
		"ol", "p", "pre", "ruby", "s", "small", "span", "strike", "strong", "sub", "sup", "table", "tt", "u",
		"ul", "var":
		return true
	}
	return false
}

func isFontAttribute(attr api.Attr) bool {
	return attr.Name == "color" || attr.Name == "face" || attr.Name == "size"
}

// SVGName adjusts the name of an SVG element.
func SVGName(name string) string {
	return adjusted(name,
		"altGlyph", "altGlyphDef", "altGlyphItem", "animateColor", "animateMotion", "animateTransform",
		"clipPath", "feBlend", "feColorMatrix", "feComponentTransfer", "feComposite", "feConvolveMatrix",
		"feDiffuseLighting", "feDisplacementMap", "feDistantLight", "feDropShadow", "feFlood", "feFuncA",
		"feFuncB", "feFuncG", "feFuncR", "feGaussianBlur", "feImage", "feMerge", "feMergeNode",
		"feMorphology", "feOffset", "fePointLight", "feSpecularLighting", "feSpotLight", "feTile",
		"feTurbulence", "foreignObject", "glyphRef", "linearGradient", "radialGradient", "textPath",
	)
}

// Adjust returns the attributes adjusted for a namespace.
func Adjust(space api.Space, attrs []api.Attr) []api.Attr {
	var all []api.Attr
	qualified := qualifiedNames(space)
	for _, attr := range attrs {
		attr.Space, attr.Name = api.NoSpace, attributeName(space, attr.Name)
		if q, ok := qualified[attr.Name]; ok {
			attr.Space, attr.Name = q.space, q.name
		}
		all = append(all, attr)
	}
	return all
}

// attributeName adjusts the name of an attribute of an element of a namespace.
func attributeName(space api.Space, name string) string {
	switch space {
	case api.SVG:
		return svgAttributeName(name)
	case api.MathML:
		return adjusted(name, "definitionURL")
	}
	return name
}

func svgAttributeName(name string) string {
	return adjusted(name,
		"attributeName", "attributeType", "baseFrequency", "baseProfile", "calcMode", "clipPathUnits",
		"diffuseConstant", "edgeMode", "filterUnits", "glyphRef", "gradientTransform", "gradientUnits",
		"kernelMatrix", "kernelUnitLength", "keyPoints", "keySplines", "keyTimes", "lengthAdjust",
		"limitingConeAngle", "markerHeight", "markerUnits", "markerWidth", "maskContentUnits", "maskUnits",
		"numOctaves", "pathLength", "patternContentUnits", "patternTransform", "patternUnits", "pointsAtX",
		"pointsAtY", "pointsAtZ", "preserveAlpha", "preserveAspectRatio", "primitiveUnits", "refX", "refY",
		"repeatCount", "repeatDur", "requiredExtensions", "requiredFeatures", "specularConstant",
		"specularExponent", "spreadMethod", "startOffset", "stdDeviation", "stitchTiles", "surfaceScale",
		"systemLanguage", "tableValues", "targetX", "targetY", "textLength", "viewBox", "viewTarget",
		"xChannelSelector", "yChannelSelector", "zoomAndPan",
	)
}

// adjusted returns the one of the names that is equal to a name when its letters
// are in lower case. If there is none, it returns the name itself.
func adjusted(name string, names ...string) string {
	for _, n := range names {
		// EqualFold is not enough, but spares Lower for nearly all names.
		if text.EqualFold(n, name) && text.Lower(n) == name {
			return n
		}
	}
	return name
}

// qualifiedName is a name in a namespace.
type qualifiedName struct {
	space api.Space
	name  string
}

// qualifiedNames returns what takes the place of the names of attributes that
// have a prefix, or are one, in elements of a namespace.
func qualifiedNames(space api.Space) map[string]qualifiedName {
	if space != api.SVG && space != api.MathML {
		return nil
	}
	return map[string]qualifiedName{
		"xlink:actuate": {api.XLink, "actuate"},
		"xlink:arcrole": {api.XLink, "arcrole"},
		"xlink:href":    {api.XLink, "href"},
		"xlink:role":    {api.XLink, "role"},
		"xlink:show":    {api.XLink, "show"},
		"xlink:title":   {api.XLink, "title"},
		"xlink:type":    {api.XLink, "type"},
		"xml:lang":      {api.XML, "lang"},
		"xml:space":     {api.XML, "space"},
		"xmlns":         {api.XMLNS, "xmlns"},
		"xmlns:xlink":   {api.XMLNS, "xlink"},
	}
}
