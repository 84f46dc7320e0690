package builder_test

import (
	"math"
	"reflect"
	"slices"
	"strings"
	"testing"

	"thicket/api"
	"thicket/arena"
	"thicket/builder"
	"thicket/samples"
	"thicket/stack"
)

// tag returns a start tag.
func tag(name string, attrs ...api.Attr) api.Token {
	return api.Token{Kind: api.StartTag, Name: name, Attrs: attrs}
}

func attr(space api.Space, name, value string) api.Attr {
	return api.Attr{Space: space, Name: name, Value: value}
}

// element returns an item of the namespace HTML.
func element(node int, name string) stack.Item {
	return stack.Item{Node: node, Space: api.HTML, Name: name}
}

// onDocument returns a builder for the document 1 of a new arena.
func onDocument(t testing.TB) *builder.Builder {
	t.Helper()
	a := arena.New()
	b := builder.New(a, a.Document(false))
	if b == nil {
		t.Fatal("New returned nil")
	}
	return b
}

// inBody returns a builder with the open elements html 2, body 3, and more.
func inBody(t testing.TB, names ...string) *builder.Builder {
	t.Helper()
	b := onDocument(t)
	for _, name := range slices.Concat([]string{"html", "body"}, names) {
		b.Insert(tag(name))
	}
	return b
}

// nodeOf returns a description.
func nodeOf(a *arena.Arena, h int) api.Node {
	n, _ := a.Node(h)
	return n
}

// openAre reports which handles are open, if not those.
func openAre(t *testing.T, b *builder.Builder, want ...int) {
	t.Helper()
	if got := b.Snapshot().Open; !slices.Equal(got, want) {
		t.Errorf("open are %v, want %v", got, want)
	}
}

// activeAre reports which nodes Active has, if not those.
func activeAre(t *testing.T, b *builder.Builder, want ...int) {
	t.Helper()
	var got []int
	for _, e := range b.Snapshot().Active {
		got = append(got, e.Node)
	}
	if !slices.Equal(got, want) {
		t.Errorf("active are %v, want %v", got, want)
	}
}

// dumpIs reports the dump of a node, if it has not those lines.
func dumpIs(t *testing.T, b *builder.Builder, h int, lines ...string) {
	t.Helper()
	want := ""
	for _, line := range lines {
		want += line + "\n"
	}
	if got := b.Tree.Dump(h); got != want {
		t.Errorf("the dump of %d is\n%swant\n%s", h, got, want)
	}
}

// is reports what a call returned, if not that.
func is(t *testing.T, call string, got, want any) {
	t.Helper()
	if !reflect.DeepEqual(got, want) {
		t.Errorf("%s = %+v, want %+v", call, got, want)
	}
}

// markup is what is in a node, without attributes.
func markup(a *arena.Arena, h int) string {
	all := ""
	for _, kid := range a.Kids(h) {
		switch n := nodeOf(a, kid); n.Kind {
		case api.Element:
			all += "<" + n.Name + ">" + markup(a, n.Contents) + markup(a, kid) + "</" + n.Name + ">"
		case api.Text:
			all += n.Data
		case api.Comment:
			all += "<!--" + n.Data + "-->"
		}
	}
	return all
}

// read makes the calls that an insertion mode would make, for a list of words:
// a character; the name of a start tag; and a slash and the name of an end tag.
func read(b *builder.Builder, words string) {
	for _, word := range strings.Fields(words) {
		name, isEnd := strings.CutPrefix(word, "/")
		switch {
		case isEnd && stack.Formatting(name):
			b.Agency(name)
		case isEnd && stack.Special(api.HTML, name):
			b.Open.PopUntil(name)
		case isEnd:
			b.AnyEnd(name)
		case stack.Formatting(name):
			b.Rebuild()
			b.Format(tag(name))
		case stack.Special(api.HTML, name):
			b.Insert(tag(name))
		case len(name) == 1:
			b.Rebuild()
			b.Char(rune(name[0]))
		default:
			b.Rebuild()
			b.Insert(tag(name))
		}
	}
}

// joined calls f with every string that consists of at most most of the parts,
// until the test has failed.
func joined(t *testing.T, parts []string, most int, f func(string)) {
	t.Helper()
	samples.Joined(parts, most, func(s string) {
		if !t.Failed() {
			f(s)
		}
	})
}

// strangeInts are numbers that are hardly a handle of anything.
func strangeInts() []int {
	return []int{math.MinInt, -1 << 32, -2, -1, 0, 1 << 32, 1<<32 + 1, math.MaxInt}
}

// anySpaces are the namespaces.
func anySpaces() []api.Space {
	return []api.Space{api.NoSpace, api.HTML, api.SVG, api.MathML, api.XLink, api.XML, api.XMLNS, api.Other}
}

// noSpaces are numbers that are no namespaces.
func noSpaces() []api.Space {
	return []api.Space{-1, 8, 9, 1<<32 + 1, math.MinInt, math.MaxInt}
}
