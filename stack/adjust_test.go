package stack_test

import (
	"slices"
	"strings"
	"testing"

	"thicket/api"
	"thicket/stack"
)

// adjustedByRules is the name of the list that takes the place of a name.
func adjustedByRules(list, name string) string {
	for _, n := range words(list) {
		if lowered(n) == name {
			return n
		}
	}
	return name
}

// adjustByRules adjusts one attribute.
func adjustByRules(space api.Space, a api.Attr) api.Attr {
	a.Space = api.NoSpace
	switch space {
	case api.MathML:
		a.Name = adjustedByRules("definitionURL", a.Name)
	case api.SVG:
		a.Name = adjustedByRules(svgAttributes, a.Name)
	default:
		return a
	}
	if !inList(prefixedNames, a.Name) {
		return a
	}
	switch prefix, rest, _ := strings.Cut(a.Name, ":"); prefix {
	case "xlink":
		return attr(api.XLink, rest, a.Value)
	case "xml":
		return attr(api.XML, rest, a.Value)
	}
	return attr(api.XMLNS, a.Name[strings.Index(a.Name, ":")+1:], a.Value)
}

// P6.2: all names.
func TestSVGName(t *testing.T) {
	for _, name := range someNames() {
		if got, want := stack.SVGName(name), adjustedByRules(svgElements, name); got != want {
			t.Errorf("SVGName(%q) = %q, want %q", name, got, want)
		}
	}
	for name, want := range map[string]string{
		"foreignobject": "foreignObject", "foreignObject": "foreignObject", "FOREIGNOBJECT": "FOREIGNOBJECT", "foreignobjecT": "foreignobjecT", "Foreignobject": "Foreignobject",
		"fefunca": "feFuncA", "clippath": "clipPath", "textpath": "textPath", "altglyphdef": "altGlyphDef", "fedropshadow": "feDropShadow", "radialgradient": "radialGradient",
		"viewbox": "viewbox", "svg": "svg", "": "", "textpath ": "textpath ", "clippath\u0130": "clippath\u0130", "\u212Aey": "\u212Aey",
	} {
		if got := stack.SVGName(name); got != want {
			t.Errorf("SVGName(%q) = %q, want %q", name, got, want)
		}
	}
}

// P6.2: all names in all namespaces, with attributes of all namespaces.
func TestAdjustEachName(t *testing.T) {
	for _, space := range anySpaces() {
		for i, name := range someNames() {
			given := attr(anySpaces()[i%len(anySpaces())], name, "V"+name)
			if got, want := stack.Adjust(space, []api.Attr{given}), adjustByRules(space, given); !slices.Equal(got, []api.Attr{want}) {
				t.Errorf("Adjust(%d, %v) = %v, want %v", space, given, got, want)
			}
		}
	}
}

// P6.2: many attributes at once, in their order; the list is not changed, and
// shares no memory with the result.
func TestAdjustLists(t *testing.T) {
	for _, space := range anySpaces() {
		var given, want []api.Attr
		for _, name := range someNames() {
			a := attr(api.XLink, name, strings.ToUpper(name))
			given, want = append(given, a, a), append(want, adjustByRules(space, a), adjustByRules(space, a))
		}
		before := slices.Clone(given)
		got := stack.Adjust(space, given)
		if !slices.Equal(got, want) {
			t.Errorf("Adjust(%d, ..) = %v, want %v", space, got, want)
		}
		if !slices.Equal(given, before) {
			t.Errorf("Adjust(%d, ..) changes its list", space)
		}
		clear(got)
		if !slices.Equal(given, before) {
			t.Errorf("Adjust(%d, ..) shares memory", space)
		}
		if len(stack.Adjust(space, nil)) != 0 || len(stack.Adjust(space, []api.Attr{})) != 0 {
			t.Errorf("Adjust(%d, nil) has attributes", space)
		}
	}
}

// P6.2: what takes the place of names, said once more without the rules.
func TestAdjustPlainly(t *testing.T) {
	given := []api.Attr{
		attr(0, "viewbox", "1"), attr(0, "viewBox", "2"), attr(api.XML, "xlink:href", "3"), attr(0, "href", "4"), attr(0, "definitionurl", "5"), attr(0, "definitionURL", "6"),
		attr(0, "xmlns", "7"), attr(0, "xmlns:xlink", "8"), attr(0, "xmlns:svg", "9"), attr(0, "xml:lang", "10"), attr(0, "xml:space", "11"), attr(0, "xml:base", "12"),
		attr(0, "xlink:title", "13"), attr(0, "XLINK:title", "14"), attr(api.Other, "a", "15"), attr(0, "zoomandpan", "16"), attr(0, "xlink:Title", "17"),
	}
	svg := []api.Attr{
		attr(0, "viewBox", "1"), attr(0, "viewBox", "2"), attr(api.XLink, "href", "3"), attr(0, "href", "4"), attr(0, "definitionurl", "5"), attr(0, "definitionURL", "6"),
		attr(api.XMLNS, "xmlns", "7"), attr(api.XMLNS, "xlink", "8"), attr(0, "xmlns:svg", "9"), attr(api.XML, "lang", "10"), attr(api.XML, "space", "11"), attr(0, "xml:base", "12"),
		attr(api.XLink, "title", "13"), attr(0, "XLINK:title", "14"), attr(0, "a", "15"), attr(0, "zoomAndPan", "16"), attr(0, "xlink:Title", "17"),
	}
	math := slices.Clone(svg)
	math[0].Name, math[4].Name, math[15].Name = "viewbox", "definitionURL", "zoomandpan"
	html := slices.Clone(given)
	html[2].Space, html[14].Space = api.NoSpace, api.NoSpace
	is(t, "Adjust(SVG, ..)", stack.Adjust(api.SVG, given), svg)
	is(t, "Adjust(MathML, ..)", stack.Adjust(api.MathML, given), math)
	is(t, "Adjust(HTML, ..)", stack.Adjust(api.HTML, given), html)
	is(t, "Adjust(Other, ..)", stack.Adjust(api.Other, given), html)
	is(t, "Adjust(-1, ..)", stack.Adjust(-1, given), html)
}
