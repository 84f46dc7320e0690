package builder_test

import (
	"fmt"
	"reflect"
	"testing"

	"thicket/api"
	"thicket/builder"
	"thicket/stack"
)

// call is a call of a method, and one of its rules.
type call struct {
	name    string
	program func(b *builder.Builder) any
	rules   func(s *state) any
}

// doing is a call that returns nothing.
func doing(name string, program func(b *builder.Builder), rules func(s *state)) call {
	return call{
		name,
		func(b *builder.Builder) any { program(b); return nil },
		func(s *state) any { rules(s); return nil },
	}
}

// outside is a change from outside, which is the same for both.
func outside(name string, change func(s *state)) call {
	return doing(name, func(b *builder.Builder) { change((*state)(b)) }, change)
}

func current() call {
	return call{"Current()", func(b *builder.Builder) any { return b.Current() }, func(s *state) any { return s.current() }}
}

func adjusted() call {
	return call{"Adjusted()", func(b *builder.Builder) any { return b.Adjusted() }, func(s *state) any { return s.adjusted() }}
}

func placeOf(target int) call {
	return call{
		fmt.Sprintf("Place(%d)", target),
		func(b *builder.Builder) any { parent, before := b.Place(target); return [2]int{parent, before} },
		func(s *state) any { parent, before := s.place(target); return [2]int{parent, before} },
	}
}

func create(t api.Token, space api.Space, parent int) call {
	return call{
		fmt.Sprintf("Create(%+v, %d, %d)", t, space, parent),
		func(b *builder.Builder) any { return b.Create(t, space, parent) },
		func(s *state) any { return s.create(t, space, parent) },
	}
}

func insert(t api.Token) call {
	return call{
		fmt.Sprintf("Insert(%+v)", t),
		func(b *builder.Builder) any { return b.Insert(t) },
		func(s *state) any { return s.insert(t, api.HTML) },
	}
}

func insertForeign(t api.Token, space api.Space) call {
	return call{
		fmt.Sprintf("InsertForeign(%+v, %d)", t, space),
		func(b *builder.Builder) any { return b.InsertForeign(t, space) },
		func(s *state) any { return s.insert(t, space) },
	}
}

func format(t api.Token) call {
	return call{
		fmt.Sprintf("Format(%+v)", t),
		func(b *builder.Builder) any { return b.Format(t) },
		func(s *state) any { return s.format(t) },
	}
}

func char(r rune) call {
	return doing(fmt.Sprintf("Char(%d)", r), func(b *builder.Builder) { b.Char(r) }, func(s *state) { s.char(r) })
}

func comment(data string, parent int) call {
	return doing(
		fmt.Sprintf("Comment(%q, %d)", data, parent),
		func(b *builder.Builder) { b.Comment(data, parent) },
		func(s *state) { s.comment(data, parent) },
	)
}

func rawText(t api.Token, c api.State) call {
	return doing(
		fmt.Sprintf("RawText(%+v, %d)", t, c),
		func(b *builder.Builder) { b.RawText(t, c) },
		func(s *state) { s.rawText(t, c) },
	)
}

func closeP() call {
	return doing("CloseP()", (*builder.Builder).CloseP, (*state).closeP)
}

func rebuild() call {
	return doing("Rebuild()", (*builder.Builder).Rebuild, (*state).rebuild)
}

func anyEnd(name string) call {
	return doing(fmt.Sprintf("AnyEnd(%q)", name), func(b *builder.Builder) { b.AnyEnd(name) }, func(s *state) { s.anyEnd(name) })
}

func agency(name string) call {
	return doing(fmt.Sprintf("Agency(%q)", name), func(b *builder.Builder) { b.Agency(name) }, func(s *state) { s.agency(name) })
}

func reset() call {
	return doing("Reset()", (*builder.Builder).Reset, (*state).reset)
}

func merge(t api.Token, node int) call {
	return doing(
		fmt.Sprintf("Merge(%+v, %d)", t, node),
		func(b *builder.Builder) { b.Merge(t, node) },
		func(s *state) { s.merge(t, node) },
	)
}

func endTemplate() call {
	return doing("EndTemplate()", (*builder.Builder).EndTemplate, (*state).endTemplate)
}

func stop() call {
	return doing("Stop()", (*builder.Builder).Stop, func(s *state) { s.Stopped = true })
}

// allCalls are calls of every method.
func allCalls() []call {
	return []call{
		current(), adjusted(), placeOf(0), placeOf(3), create(tag("p"), api.HTML, 3), insert(tag("p")), insertForeign(tag("p"), api.SVG), format(tag("p")), char('x'), comment("x", 0),
		comment("x", 1), rawText(tag("p"), api.RAWTEXTState), closeP(), rebuild(), anyEnd("p"), agency("p"), reset(), merge(tag("p", attr(0, "x", "y")), 3), endTemplate(), stop(),
	}
}

// check makes a call of a builder and one of the rules, and compares what they
// return and what they leave behind.
func check(t *testing.T, b *builder.Builder, s *state, c call) bool {
	t.Helper()
	got, want := c.program(b), c.rules(s)
	if !reflect.DeepEqual(got, want) {
		t.Errorf("%s = %+v, want %+v", c.name, got, want)
		return false
	}
	if d := difference((*state)(b), s); d != "" {
		t.Errorf("after %s, %s is wrong: %+v and\n%s, want %+v and\n%s", c.name, d, *b, dumps(b), *s, dumps((*builder.Builder)(s)))
		return false
	}
	return true
}

// checkOn checks calls, each on a copy of a builder.
func checkOn(t *testing.T, b *builder.Builder, calls ...call) {
	t.Helper()
	for _, c := range calls {
		copied := builder.Builder(*stateOf(b))
		if !check(t, &copied, stateOf(b), c) {
			return
		}
	}
}

// dumps returns the dumps of all roots but contents.
func dumps(b *builder.Builder) string {
	all := ""
	for h := 1; h <= b.Tree.Len(); h++ {
		if n := nodeOf(b.Tree, h); n.Parent == 0 && n.Host == 0 {
			all += b.Tree.Dump(h)
		}
	}
	return all
}

// listed are open elements, the bottom first, with the nodes 2, 3, 4 and so on.
func listed(names ...string) []stack.Item {
	var all []stack.Item
	for i, name := range names {
		all = append(all, element(i+2, name))
	}
	return all
}
