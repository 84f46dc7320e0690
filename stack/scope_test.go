package stack_test

import (
	"math"
	"testing"

	"thicket/api"
	"thicket/stack"
)

// anyScopes are the scopes, and numbers that are none.
func anyScopes() []stack.Scope {
	return []stack.Scope{stack.DefaultScope, stack.ListScope, stack.ButtonScope, stack.TableScope, stack.SelectScope, 0, -1, 6, 1<<32 + 4, math.MinInt, math.MaxInt}
}

func scopeCalls() []stackCall {
	var calls []stackCall
	for _, scope := range anyScopes() {
		calls = append(calls, inScope(scope), inScope(scope, ""), inScope(scope, "x"), inScope(scope, "td", "p"), inScope(scope, "x", "html", "x"))
		for _, name := range words("html p table ul button option title mi") {
			calls = append(calls, inScope(scope, name))
		}
		for _, node := range []int{-1, 0, 1, 2, 3, 4, math.MinInt, math.MaxInt} {
			calls = append(calls, nodeInScope(scope, node))
		}
	}
	return calls
}

// P6.4: all stacks of up to three items.
func TestScopesOfNames(t *testing.T) {
	calls := scopeCalls()
	stacksOf(someItems(), 3, func(items []stack.Item) {
		for i := range items {
			items[i].Node = i + 1
		}
		checkOn(t, items, calls...)
	})
}

// P6.4: stacks in which nodes stand many times, 0 among them.
func TestScopesOfNodes(t *testing.T) {
	calls := scopeCalls()
	var choice []stack.Item
	for node := range 3 {
		choice = append(choice, element(node, "p"), element(node, "table"), element(node, "option"))
	}
	stacksOf(choice, 3, func(items []stack.Item) { checkOn(t, items, calls...) })
}

// P6.4: every name in every namespace above an element.
func TestScopesOfAllNames(t *testing.T) {
	for _, space := range anySpaces() {
		for _, name := range someNames() {
			items := []stack.Item{element(1, "html"), element(2, "p"), {Node: 3, Space: space, Name: name, Point: true}}
			for scope := stack.Scope(0); scope <= 6; scope++ {
				checkOn(t, items, inScope(scope, "p"), nodeInScope(scope, 2), inScope(scope, name), nodeInScope(scope, 3))
			}
		}
	}
}

// P6.4: the numbers of the scopes.
func TestScopeNumbers(t *testing.T) {
	for want, scope := range []stack.Scope{1: stack.DefaultScope, 2: stack.ListScope, 3: stack.ButtonScope, 4: stack.TableScope, 5: stack.SelectScope} {
		is(t, "a scope", int(scope), want)
	}
}

// P6.4: the boundaries, said once more without the rules.
func TestBoundaries(t *testing.T) {
	for _, x := range []struct {
		item stack.Item
		want string // the scopes that the item bounds
	}{
		{element(3, "table"), "default list button table select"}, {element(3, "html"), "default list button table select"}, {element(3, "template"), "default list button table select"},
		{element(3, "td"), "default list button select"}, {element(3, "th"), "default list button select"}, {element(3, "caption"), "default list button select"}, {element(3, "applet"), "default list button select"},
		{element(3, "marquee"), "default list button select"}, {element(3, "object"), "default list button select"}, {element(3, "ol"), "list select"}, {element(3, "ul"), "list select"}, {element(3, "button"), "button select"},
		{element(3, "select"), "select"}, {element(3, "div"), "select"}, {element(3, "tr"), "select"}, {element(3, "option"), ""}, {element(3, "optgroup"), ""}, {element(3, ""), "select"}, {element(3, "TABLE"), "select"},
		{stack.Item{Node: 3, Space: api.SVG, Name: "title"}, "default list button select"}, {stack.Item{Node: 3, Space: api.SVG, Name: "foreignObject"}, "default list button select"}, {stack.Item{Node: 3, Space: api.SVG, Name: "table"}, "select"},
		{stack.Item{Node: 3, Space: api.MathML, Name: "annotation-xml"}, "default list button select"}, {stack.Item{Node: 3, Space: api.MathML, Name: "mtext"}, "default list button select"}, {stack.Item{Node: 3, Space: api.MathML, Name: "td"}, "select"},
		{stack.Item{Node: 3, Space: api.SVG, Name: "option"}, "select"}, {stack.Item{Node: 3, Space: api.Other, Name: "html"}, "select"}, {stack.Item{Node: 3, Name: "table"}, "select"}, {stack.Item{Node: 3, Space: api.SVG, Name: "button"}, "select"},
	} {
		s := stackOf(element(1, "html"), element(2, "p"), x.item)
		for scope, name := range map[stack.Scope]string{stack.DefaultScope: "default", stack.ListScope: "list", stack.ButtonScope: "button", stack.TableScope: "table", stack.SelectScope: "select", 0: "default", 9: "default", -1: "default"} {
			want := !inList(x.want, name)
			if s.InScope(scope, "p") != want || s.NodeInScope(scope, 2) != want {
				t.Errorf("%+v bounds the scope %d: %t", x.item, scope, want)
			}
			if !s.NodeInScope(scope, 3) {
				t.Errorf("%+v is not in its own scope %d", x.item, scope)
			}
		}
	}
}

// P6.4: the examples, and what is not there.
func TestInScopePlainly(t *testing.T) {
	s := elements("html", "body", "table", "td", "p")
	is(t, "InScope(ButtonScope, p)", s.InScope(stack.ButtonScope, "p"), true)
	is(t, "InScope(DefaultScope, table)", s.InScope(stack.DefaultScope, "table"), false)
	is(t, "InScope(DefaultScope, td)", s.InScope(stack.DefaultScope, "td"), true)
	is(t, "InScope(TableScope, table)", s.InScope(stack.TableScope, "table"), true)
	is(t, "InScope(TableScope, body)", s.InScope(stack.TableScope, "body"), false)
	is(t, "InScope(DefaultScope, body, td)", s.InScope(stack.DefaultScope, "body", "td"), true)
	is(t, "InScope(DefaultScope)", s.InScope(stack.DefaultScope), false)
	is(t, "NodeInScope(DefaultScope, 4)", s.NodeInScope(stack.DefaultScope, 4), true)
	is(t, "NodeInScope(DefaultScope, 3)", s.NodeInScope(stack.DefaultScope, 3), false)
	is(t, "NodeInScope(DefaultScope, 9)", s.NodeInScope(stack.DefaultScope, 9), false)
	is(t, "NodeInScope(DefaultScope, 0)", s.NodeInScope(stack.DefaultScope, 0), false)
	var empty stack.Stack
	for _, scope := range anyScopes() {
		is(t, "InScope() of an empty stack", empty.InScope(scope, "html", ""), false)
		is(t, "NodeInScope() of an empty stack", empty.NodeInScope(scope, 0), false)
	}
	twice := stackOf(element(1, "html"), element(2, "p"), element(3, "table"), element(2, "b"))
	is(t, "NodeInScope of a node that stands twice", twice.NodeInScope(stack.DefaultScope, 2), true)
	hidden := stackOf(element(1, "html"), element(2, "p"), stack.Item{Node: 3, Space: api.SVG, Name: "p"}, element(4, "td"))
	is(t, "InScope(DefaultScope, p)", hidden.InScope(stack.DefaultScope, "p"), false)
	is(t, "InScope(TableScope, p)", hidden.InScope(stack.TableScope, "p"), true)
}

// P6.4: what follows for the scopes from their boundaries.
func TestScopesInScopes(t *testing.T) {
	stacksOf(someItems(), 4, func(items []stack.Item) {
		for i := range items {
			items[i].Node = i + 1
		}
		s := stackOf(items...)
		for _, item := range items {
			by := func(scope stack.Scope) bool { return s.NodeInScope(scope, item.Node) }
			if (by(stack.ListScope) || by(stack.ButtonScope)) && !by(stack.DefaultScope) || (by(stack.DefaultScope) || by(stack.SelectScope)) && !by(stack.TableScope) {
				t.Fatalf("the node %d of %+v", item.Node, items)
			}
			named := func(scope stack.Scope) bool { return s.InScope(scope, item.Name) }
			if (named(stack.ListScope) || named(stack.ButtonScope)) && !named(stack.DefaultScope) || (named(stack.DefaultScope) || named(stack.SelectScope)) && !named(stack.TableScope) {
				t.Fatalf("the name %q of %+v", item.Name, items)
			}
		}
	})
}
