package stack_test

import (
	"math"
	"reflect"
	"slices"
	"strings"
	"testing"

	"thicket/api"
	"thicket/stack"
)

// The lists of the chapter.
const (
	specialNames = `address applet area article aside base basefont bgsound blockquote body br button caption center col colgroup dd details dir div dl dt
		embed fieldset figcaption figure footer form frame frameset h1 h2 h3 h4 h5 h6 head header hgroup hr html iframe img input keygen li link listing main
		marquee menu meta nav noembed noframes noscript object ol p param plaintext pre script search section select source style summary table tbody td
		template textarea tfoot th thead title tr track ul wbr xmp`
	formattingNames = `a b big code em font i nobr s small strike strong tt u`
	voidNames       = `area base basefont bgsound br col embed frame hr img input keygen link meta param source track wbr`
	headingNames    = `h1 h2 h3 h4 h5 h6`
	impliedNames    = `dd dt li optgroup option p rb rp rt rtc`
	thoroughNames   = impliedNames + ` caption colgroup tbody td tfoot th thead tr`
	mathTextNames   = `mi mn mo ms mtext`
	svgHTMLNames    = `desc foreignObject title`
	breakoutNames   = `b big blockquote body br center code dd div dl dt em embed h1 h2 h3 h4 h5 h6 head hr i img li listing menu meta nobr ol p pre ruby s
		small span strike strong sub sup table tt u ul var`
	svgElements = `altGlyph altGlyphDef altGlyphItem animateColor animateMotion animateTransform clipPath feBlend feColorMatrix feComponentTransfer
		feComposite feConvolveMatrix feDiffuseLighting feDisplacementMap feDistantLight feDropShadow feFlood feFuncA feFuncB feFuncG feFuncR feGaussianBlur
		feImage feMerge feMergeNode feMorphology feOffset fePointLight feSpecularLighting feSpotLight feTile feTurbulence foreignObject glyphRef
		linearGradient radialGradient textPath`
	svgAttributes = `attributeName attributeType baseFrequency baseProfile calcMode clipPathUnits diffuseConstant edgeMode filterUnits glyphRef
		gradientTransform gradientUnits kernelMatrix kernelUnitLength keyPoints keySplines keyTimes lengthAdjust limitingConeAngle markerHeight markerUnits
		markerWidth maskContentUnits maskUnits numOctaves pathLength patternContentUnits patternTransform patternUnits pointsAtX pointsAtY pointsAtZ
		preserveAlpha preserveAspectRatio primitiveUnits refX refY repeatCount repeatDur requiredExtensions requiredFeatures specularConstant
		specularExponent spreadMethod startOffset stdDeviation stitchTiles surfaceScale systemLanguage tableValues targetX targetY textLength viewBox
		viewTarget xChannelSelector yChannelSelector zoomAndPan`
	prefixedNames = `xlink:actuate xlink:arcrole xlink:href xlink:role xlink:show xlink:title xlink:type xml:lang xml:space xmlns xmlns:xlink`
)

func words(list string) []string {
	return strings.Fields(list)
}

// sets are the lists that were asked for, so that each one is split only once.
var sets = map[string]map[string]bool{}

// inList reports whether a list of the chapter has a name.
func inList(list, name string) bool {
	if sets[list] == nil {
		sets[list] = map[string]bool{}
		for _, word := range words(list) {
			sets[list][word] = true
		}
	}
	return sets[list][name]
}

// lowered is s with A to Z as a to z.
func lowered(s string) string {
	return strings.Map(func(r rune) rune {
		if r >= 'A' && r <= 'Z' {
			return r - 'A' + 'a'
		}
		return r
	}, s)
}

// someNames are the names of all lists, names that differ from them by little,
// and names of other sorts.
func someNames() []string {
	all := []string{
		"", " ", "\x00", "*", "\u00E9", "\xFF", "svg", "math", "mglyph", "malignmark", "font", "annotation-xml", "annotation", "h", "h0", "h7", "h10", "ruby", "rbc", "label",
		"xml:base", "xml:", "xml", "xmlns:", "xmlns:svg", "xlink", "xlink:", "xlink:label", "definitionurl", "definitionURL", "DEFINITIONURL", "encoding", "color", "face", "size", "#text",
	}
	for _, list := range []string{specialNames, formattingNames, thoroughNames, mathTextNames, svgHTMLNames, breakoutNames, svgElements, svgAttributes, prefixedNames} {
		for _, name := range words(list) {
			all = append(all, name, strings.ToLower(name), strings.ToUpper(name), strings.ToUpper(name[:1])+name[1:], name+"x", name+" ", name+"\x00", "x"+name, name[1:], name[:len(name)-1])
		}
	}
	slices.Sort(all)
	return slices.Compact(all)
}

// anySpaces are the namespaces, and numbers that are none.
func anySpaces() []api.Space {
	return []api.Space{api.NoSpace, api.HTML, api.SVG, api.MathML, api.XLink, api.XML, api.XMLNS, api.Other, -1, 8, 1<<32 + 1, math.MinInt, math.MaxInt}
}

func attr(space api.Space, name, value string) api.Attr {
	return api.Attr{Space: space, Name: name, Value: value}
}

// element returns an item of the namespace HTML.
func element(node int, name string) stack.Item {
	return stack.Item{Node: node, Space: api.HTML, Name: name}
}

// stackOf returns a stack with memory of its own.
func stackOf(items ...stack.Item) *stack.Stack {
	return &stack.Stack{Items: slices.Clone(items)}
}

// elements returns a stack of elements with the nodes 1, 2, 3 and so on.
func elements(names ...string) *stack.Stack {
	s := &stack.Stack{}
	for i, name := range names {
		s.Items = append(s.Items, element(i+1, name))
	}
	return s
}

// nodesAre reports which nodes a stack has, if not those.
func nodesAre(t *testing.T, s *stack.Stack, want ...int) {
	t.Helper()
	var got []int
	for _, item := range s.Items {
		got = append(got, item.Node)
	}
	if !slices.Equal(got, want) {
		t.Errorf("the nodes of the stack are %v, want %v", got, want)
	}
}

// is reports what a call returned, if not that.
func is(t *testing.T, call string, got, want any) {
	t.Helper()
	if !reflect.DeepEqual(got, want) {
		t.Errorf("%s = %+v, want %+v", call, got, want)
	}
}

// anyInts are numbers around 0, up to a bound, and the outermost ones.
func anyInts(bound int) []int {
	all := []int{math.MinInt, math.MinInt + 1, -1 << 32, 1 << 32, 1<<32 + 1, math.MaxInt - 1, math.MaxInt}
	for i := -bound; i <= bound; i++ {
		all = append(all, i)
	}
	return all
}
