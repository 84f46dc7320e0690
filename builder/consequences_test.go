package builder_test

import (
	"math/rand/v2"
	"slices"
	"strings"
	"testing"

	"thicket/api"
	"thicket/arena"
	"thicket/builder"
	"thicket/stack"
)

// changes makes calls on a builder.
type changes struct {
	*rand.Rand
	builder *builder.Builder
}

func oneOf[T any](c changes, list ...T) T {
	return list[c.IntN(len(list))]
}

func (c changes) handle() int {
	return c.IntN(c.builder.Tree.Len()+3) - 1
}

func (c changes) name() string {
	return oneOf(c, "p", "p", "b", "i", "a", "u", "span", "div", "li", "button", "table", "tbody", "tr", "td", "template", "select", "head", "html", "rt", "foreignobject", "title", "")
}

func (c changes) formatting() string {
	return oneOf(c, "a", "b", "i", "u", "p", "span", "template")
}

func (c changes) tag(name string) api.Token {
	attrs := []api.Attr{attr(0, "x", "1"), attr(api.XLink, "x", "2"), attr(0, "viewbox", "3"), attr(0, "xlink:href", "4")}
	return tag(name, attrs[:max(0, c.IntN(8)-3)]...)
}

func (c changes) space() api.Space {
	return oneOf(c, api.SVG, api.SVG, api.MathML, api.HTML, api.NoSpace, api.Other, 9)
}

// insertion is a call that creates something.
func (c changes) insertion() call {
	switch c.IntN(12) {
	case 0:
		return insertForeign(c.tag(c.name()), c.space())
	case 1:
		return comment(oneOf(c, "", "c"), c.handle()*c.IntN(2))
	case 2, 3:
		return char(oneOf(c, 'x', 'y', 0, -1, 0xD800, 0x10FFFF))
	case 4:
		return rawText(c.tag(c.name()), api.State(c.IntN(6)))
	case 5:
		return create(c.tag(c.name()), c.space(), c.handle())
	case 6, 7, 8:
		return format(c.tag(c.formatting()))
	}
	return insert(c.tag(c.name()))
}

// ending is a call that closes something, or opens it again.
func (c changes) ending() call {
	switch c.IntN(12) {
	case 0:
		return closeP()
	case 1:
		return anyEnd(c.name())
	case 2:
		return endTemplate()
	case 3:
		return reset()
	case 4:
		return merge(c.tag(c.name()), c.handle())
	case 5, 6:
		return rebuild()
	case 7:
		return oneOf(c, placeOf(c.handle()), current(), adjusted(), stop())
	}
	return agency(c.formatting())
}

// outsideCall is a change of the fields from outside, such as the insertion modes
// make.
func (c changes) outsideCall() call {
	h, name, mode := c.handle(), c.name(), api.Mode(c.IntN(25))
	switch c.IntN(9) {
	case 0, 1:
		return outside("Open.Pop", func(s *state) { s.Open.Pop() })
	case 2:
		return outside("Open.PopUntil", func(s *state) { s.Open.PopUntil(name) })
	case 3:
		return outside("Open.Remove", func(s *state) { s.Open.Remove(h) })
	case 4:
		return outside("Active.Mark", func(s *state) { s.Active.Mark() })
	case 5:
		return outside("Active.Remove", func(s *state) { s.Active.Remove(h) })
	case 6:
		return outside("Templates", func(s *state) { s.Templates = append(s.Templates, mode) })
	case 7:
		return outside("Head, Mode", func(s *state) { s.Head, s.Mode = h, mode })
	}
	return outside("Foster", func(s *state) { s.Foster = !s.Foster })
}

// intrusion is a change that no insertion mode makes.
func (c changes) intrusion() call {
	h, k, name := c.handle(), c.handle(), c.name()
	item := stack.Item{Node: h, Space: oneOf(c, api.HTML, api.HTML, api.SVG), Name: name}
	entry := api.Entry{Node: h, Name: c.formatting()}
	switch c.IntN(8) {
	case 0:
		return outside("Open.Push", func(s *state) { s.Open.Push(item) })
	case 1:
		return outside("Open.Insert", func(s *state) { s.Open.Insert(item, k) })
	case 2:
		return outside("Tree.Put", func(s *state) { s.Tree.Put(h, k, 0) })
	case 3:
		return outside("Tree.Cut", func(s *state) { s.Tree.Cut(h) })
	case 4:
		return outside("Tree.Text", func(s *state) { s.Tree.Text(s.Doc, "t") })
	case 5:
		return outside("Tree.Document", func(s *state) { s.Tree.Document(true) })
	case 6:
		return outside("Fragment", func(s *state) { s.Fragment, s.Context = !s.Fragment, element(0, name) })
	}
	return outside("an entry", func(s *state) {
		if h > 0 && s.Active.Index(h) == -1 {
			s.Active.Insert(entry, k%7)
		}
	})
}

func (c changes) next() call {
	switch n := c.IntN(20); {
	case n < 9:
		return c.insertion()
	case n < 16:
		return c.ending()
	}
	return c.outsideCall()
}

// run makes calls, and calls each after each one, unless the test has failed.
func run(t *testing.T, seed uint64, b *builder.Builder, next func(c changes) call, each func(name string) bool) {
	t.Helper()
	if t.Failed() {
		return
	}
	s := stateOf(b)
	c := changes{rand.New(rand.NewPCG(seed, 7)), b}
	for range 150 {
		step := next(c)
		if !check(t, b, s, step) || !each(step.name) {
			return
		}
	}
}

// starts returns a builder of each sort.
func starts(t *testing.T) []*builder.Builder {
	return []*builder.Builder{
		onDocument(t), inBody(t), inBody(t, "table", "tr"), inBody(t, "template"),
		builder.NewFragment(hall(t), 1, api.Context{Space: api.HTML, Name: "td"}),
		builder.NewFragment(hall(t), 22, api.Context{Space: api.HTML, Name: "template", InForm: true}),
	}
}

// P7.1 to P7.5: long sequences of calls.
func TestManyCalls(t *testing.T) {
	for seed := range uint64(80) {
		for _, b := range starts(t) {
			first := b.Open.At(0)
			run(t, seed, b, changes.next, func(name string) bool {
				if first == (stack.Item{}) {
					first = b.Open.At(0)
				}
				return hasConsequences(t, b, first, name)
			})
		}
	}
}

// hasConsequences reports whether what P7.5 promises holds, and says it if not.
func hasConsequences(t *testing.T, b *builder.Builder, first stack.Item, name string) bool {
	t.Helper()
	if !arena.Sound(b.Tree.Nodes()) {
		t.Errorf("not sound after %s", name)
		return false
	}
	if b.Open.At(0) != first {
		t.Errorf("%s changes the first item", name)
		return false
	}
	entries := b.Active.Entries
	if n := len(entries); name == "Rebuild()" && n > 0 && entries[n-1].Node != 0 && b.Open.Index(entries[n-1].Node) == -1 {
		t.Errorf("after Rebuild, the last entry is %+v", entries[n-1])
		return false
	}
	return true
}

// P7.1 to P7.5: long sequences in which the fields and the arena are changed in
// any way now and then.
func TestManyCallsWithIntrusions(t *testing.T) {
	next := func(c changes) call {
		if c.IntN(8) == 0 {
			return c.intrusion()
		}
		return c.next()
	}
	for seed := range uint64(80) {
		for _, b := range starts(t) {
			run(t, seed, b, next, func(name string) bool {
				if hasTwins(b) {
					return false // of such lists nothing is promised
				}
				return hasConsequences(t, b, b.Open.At(0), name)
			})
		}
	}
}

// hasTwins reports whether two entries of Active have the same Node other than 0.
func hasTwins(b *builder.Builder) bool {
	seen := map[int]bool{}
	for _, e := range b.Active.Entries {
		if e.Node != 0 && seen[e.Node] {
			return true
		}
		seen[e.Node] = true
	}
	return false
}

// P7.4: at most 32 nodes, whatever was called before.
func TestAgencyCreatesFew(t *testing.T) {
	for seed := range uint64(300) {
		c := changes{rand.New(rand.NewPCG(seed, 8)), inBody(t)}
		b := c.builder
		for range 120 {
			name := oneOf(c, "a", "b", "i", "u")
			switch c.IntN(12) {
			case 0:
				b.Insert(tag("p"))
			case 1:
				b.Insert(tag("div"))
			case 2:
				b.Open.Pop()
			case 3:
				before := b.Tree.Len()
				b.Agency(name)
				if n := b.Tree.Len() - before; n > 32 {
					t.Errorf("seed %d: Agency(%q) creates %d nodes", seed, name, n)
				}
			default:
				b.Format(tag(name, attr(0, "n", oneOf(c, "1", "2", "3", "4"))))
			}
		}
	}
}

// P7.5: characters that are inserted one after the other are one text.
func TestOneText(t *testing.T) {
	for seed := range uint64(300) {
		for _, b := range starts(t) {
			c := changes{rand.New(rand.NewPCG(seed, 9)), b}
			for range seed % 40 {
				c.next().program(b)
			}
			h, _ := b.Place(0)
			if k := nodeOf(b.Tree, h).Kind; k != api.Element && k != api.Fragment {
				continue
			}
			before := stateOf(b)
			for _, r := range "abcd" {
				b.Char(r)
			}
			before.char('a')
			added := slices.IndexFunc(before.Tree.Nodes(), func(n api.Node) bool { return n.Kind == api.Text && n.Parent == h && strings.HasSuffix(n.Data, "a") })
			found := slices.IndexFunc(b.Tree.Nodes(), func(n api.Node) bool { return strings.HasSuffix(n.Data, "abcd") })
			if b.Tree.Len() != before.Tree.Len() || found != added {
				t.Errorf("seed %d: %s", seed, dumps(b))
			}
		}
	}
}

// R9: a call depends on its arguments and on the state alone.
func TestRepetition(t *testing.T) {
	for seed := range uint64(40) {
		b, d := inBody(t, "table"), inBody(t, "table")
		c := changes{rand.New(rand.NewPCG(seed, 10)), b}
		for range 60 {
			step := c.next()
			is(t, step.name, step.program(b), step.program(d))
		}
		is(t, "the snapshot", b.Snapshot(), d.Snapshot())
		if !b.Tree.Equal(d.Tree) {
			t.Errorf("seed %d: the arenas differ", seed)
		}
	}
}

// P0.1: builders that were not made by New, and arguments of all sorts. Of those
// without a document nothing else is promised.
func TestAnyArguments(t *testing.T) {
	full := hall(t)
	for _, tree := range []*arena.Arena{{}, full} {
		for _, doc := range append(strangeInts(), 1, 2, 4, 10) {
			for seed := range uint64(4) {
				b := &builder.Builder{Tree: tree.Copy(), Doc: doc, Foster: seed%2 == 1, Fragment: seed > 1}
				c := changes{rand.New(rand.NewPCG(seed, 11)), b}
				for range 60 {
					step := c.next()
					if c.IntN(4) == 0 {
						step = c.intrusion()
					}
					step.program(b)
				}
				b.Snapshot()
				if !arena.Sound(b.Tree.Nodes()) {
					t.Errorf("not sound: %s", dumps(b))
				}
			}
		}
	}
	for _, n := range strangeInts() {
		b := inBody(t, "template")
		checkOn(t, b, placeOf(n), create(tag("p"), api.HTML, n), create(tag("p"), api.Space(n), 3), insertForeign(tag("p"), api.Space(n)), comment("c", n), merge(tag("p", attr(api.Space(n), "x", "1")), n), rawText(tag("p"), api.State(n)), char(rune(n)))
		checkOn(t, b, insert(api.Token{Kind: api.TokenKind(n)}), format(api.Token{}), anyEnd(""), agency(""), anyEnd("\xFF"), agency("\x00"))
		b.Head, b.Form, b.Mode, b.Original = n, n, api.Mode(n), api.Mode(n)
		checkOn(t, b, allCalls()...)
	}
}
