package stack_test

import (
	"math"
	"math/rand/v2"
	"slices"
	"testing"

	"thicket/api"
	"thicket/stack"
)

// someItems are items of all sorts, without nodes.
func someItems() []stack.Item {
	return []stack.Item{
		{Space: api.HTML, Name: "html"}, {Space: api.HTML, Name: "p"}, {Space: api.HTML, Name: "table"}, {Space: api.HTML, Name: "td"}, {Space: api.HTML, Name: "ul"},
		{Space: api.HTML, Name: "button"}, {Space: api.HTML, Name: "option"}, {Space: api.HTML, Name: "b"}, {Space: api.HTML}, {Space: api.SVG, Name: "title", Point: true},
		{Space: api.SVG, Name: "p"}, {Space: api.MathML, Name: "mi"}, {Space: api.Other, Name: "table"},
	}
}

// readings are the calls that change nothing.
func readings() []stackCall {
	calls := []stackCall{top(), length()}
	for _, i := range []int{-1, 0, 1, 2, 3, math.MinInt, math.MaxInt} {
		calls = append(calls, at(i), index(i), furthest(i))
	}
	for _, name := range words("html p table td title option b mi x") {
		calls = append(calls, last(name))
	}
	return append(calls, last(""))
}

// removals are the calls that remove items from the top.
func removals() []stackCall {
	calls := []stackCall{pop(), popUntil(), clearTo(), implied(""), implied("p"), implied("option"), implied("td"), thorough(), thorough()}
	for _, name := range words("html p table td option title b mi x") {
		calls = append(calls, popUntil(name), clearTo(name), popUntil(name, "p", name), clearTo("ul", name))
	}
	for _, node := range []int{-1, 0, 1, 2, 3, 4, math.MinInt, math.MaxInt} {
		calls = append(calls, popNode(node))
	}
	return append(calls, popUntil(""), clearTo(""))
}

// changes are the calls that add items, or change some between others.
func changes() []stackCall {
	var calls []stackCall
	for _, item := range []stack.Item{{}, element(9, "p"), {Node: 1, Space: api.SVG, Name: "title", Point: true}} {
		calls = append(calls, push(item))
		for _, i := range []int{-1, 0, 1, 2, 3, 4, math.MinInt, math.MaxInt} {
			calls = append(calls, insert(item, i), replace(i, item), remove(i))
		}
	}
	return calls
}

// stacksOf calls f with the lists of up to so many items.
func stacksOf(choice []stack.Item, most int, f func(items []stack.Item)) {
	var extend func(items []stack.Item)
	extend = func(items []stack.Item) {
		f(items)
		if len(items) < most {
			for _, item := range choice {
				extend(append(slices.Clone(items), item))
			}
		}
	}
	extend(nil)
}

// P6.3: all calls on all stacks of up to three items, with the nodes 1, 2, 3.
func TestStackOfNames(t *testing.T) {
	calls := slices.Concat(readings(), removals(), changes())
	stacksOf(someItems(), 3, func(items []stack.Item) {
		for i := range items {
			items[i].Node = i + 1
		}
		checkOn(t, items, calls...)
	})
}

// P6.3: all calls on stacks in which nodes stand many times, 0 among them.
func TestStackOfNodes(t *testing.T) {
	calls := slices.Concat(readings(), removals(), changes())
	var choice []stack.Item
	for node := range 4 {
		choice = append(choice, element(node, "p"), stack.Item{Node: node, Space: api.SVG, Name: "p"})
	}
	stacksOf(choice, 4, func(items []stack.Item) { checkOn(t, items, calls...) })
}

// P6.3: every name on top of every other one, in all namespaces.
func TestStackOfAllNames(t *testing.T) {
	names := someNames()
	for _, space := range anySpaces() {
		for _, name := range names {
			item := stack.Item{Node: 3, Space: space, Name: name}
			below := []stack.Item{element(1, "html"), element(2, "div"), item}
			checkOn(t, below, implied(""), implied(name), implied("p"), thorough(), last(name), popUntil(name), clearTo(name), clearTo("div"), popUntil("div"), furthest(1), furthest(2))
		}
	}
}

// P6.3: what the methods return and change, said once more without the rules.
func TestReadPlainly(t *testing.T) {
	s := stackOf(element(1, "html"), element(2, "body"), element(3, "b"), stack.Item{Node: 4, Space: api.SVG, Name: "b"}, stack.Item{Node: 5, Space: api.SVG, Name: "desc"}, element(6, "p"), element(3, "i"))
	is(t, "Len()", s.Len(), 7)
	is(t, "Top()", s.Top(), element(3, "i"))
	is(t, "At(0)", s.At(0), element(1, "html"))
	is(t, "At(3)", s.At(3), stack.Item{Node: 4, Space: api.SVG, Name: "b"})
	is(t, "At(7)", s.At(7), stack.Item{})
	is(t, "At(-1)", s.At(-1), stack.Item{})
	is(t, "Index(3)", s.Index(3), 6)
	is(t, "Index(2)", s.Index(2), 1)
	is(t, "Index(9)", s.Index(9), -1)
	is(t, "Index(0)", s.Index(0), -1)
	is(t, "Last(b)", s.Last("b"), 2)
	is(t, "Last(desc)", s.Last("desc"), -1)
	is(t, "Last(HTML)", s.Last("HTML"), -1)
	is(t, "Furthest(1)", s.Furthest(1), 1)
	is(t, "Furthest(2)", s.Furthest(2), 4)
	is(t, "Furthest(4)", s.Furthest(4), 4)
	is(t, "Furthest(5)", s.Furthest(5), 5)
	is(t, "Furthest(6)", s.Furthest(6), -1)
	is(t, "Furthest(3)", s.Furthest(3), -1)
	is(t, "Furthest(9)", s.Furthest(9), -1)
}

// P6.3: pushing and popping. The first item is never popped.
func TestPushAndPop(t *testing.T) {
	var s stack.Stack
	is(t, "Pop() of nothing", s.Pop(), stack.Item{})
	s.Push(element(1, "html"))
	s.Push(stack.Item{Node: 2, Space: api.MathML, Name: "annotation-xml", Point: true})
	s.Push(stack.Item{})
	nodesAre(t, &s, 1, 2, 0)
	is(t, "Pop()", s.Pop(), stack.Item{})
	is(t, "Pop()", s.Pop(), stack.Item{Node: 2, Space: api.MathML, Name: "annotation-xml", Point: true})
	is(t, "Pop() of the first item", s.Pop(), stack.Item{})
	nodesAre(t, &s, 1)
	s.Push(element(4, "p"))
	nodesAre(t, &s, 1, 4)
}

// P6.3: the removals from the top.
func TestRemoveFromTopPlainly(t *testing.T) {
	s := elements("html", "body", "table", "td", "p")
	is(t, "Implied(p)", s.Implied("p"), 0)
	is(t, "Implied(li)", s.Implied("li"), 1)
	is(t, "Implied(li)", s.Implied("li"), 0)
	is(t, "Thorough()", s.Thorough(), 1)
	is(t, "PopUntil(x)", s.PopUntil("x"), 2)
	nodesAre(t, s, 1)
	s = elements("html", "p", "li", "p", "option", "rtc")
	is(t, "Implied(li)", s.Implied("li"), 3)
	is(t, "Implied(x)", s.Implied("x"), 2)
	nodesAre(t, s, 1)
	s = elements("p", "p")
	is(t, "Implied()", s.Implied(""), 1)
	is(t, "Thorough()", s.Thorough(), 0)
	nodesAre(t, s, 1)
	s = stackOf(element(1, "html"), stack.Item{Node: 2, Space: api.SVG, Name: "p"}, element(3, "p"))
	is(t, "Implied()", s.Implied(""), 1)
	is(t, "Thorough()", s.Thorough(), 0)
	is(t, "PopUntil(p)", s.PopUntil("p"), 1)
	s = elements("html", "div", "p", "div", "b")
	is(t, "PopUntil(div, p)", s.PopUntil("p", "div"), 2)
	is(t, "PopUntil(p)", s.PopUntil("p"), 1)
	is(t, "PopUntil(html)", s.PopUntil("html"), 1)
	nodesAre(t, s, 1)
	s = elements("html", "tr", "td", "b")
	is(t, "ClearTo(tr, td)", s.ClearTo("tr", "td"), 1)
	is(t, "ClearTo(tr)", s.ClearTo("tr"), 1)
	is(t, "ClearTo(tr)", s.ClearTo("tr"), 0)
	is(t, "ClearTo()", s.ClearTo(), 1)
	nodesAre(t, s, 1)
}

// P6.3: the removals up to a node.
func TestPopNodePlainly(t *testing.T) {
	s := stackOf(element(1, "html"), element(5, "p"), element(2, "b"), element(5, "i"), element(3, "u"), element(1, "a"))
	is(t, "PopNode(9)", s.PopNode(9), 0)
	is(t, "PopNode(0)", s.PopNode(0), 0)
	is(t, "PopNode(1)", s.PopNode(1), 1)
	is(t, "PopNode(5)", s.PopNode(5), 2)
	nodesAre(t, s, 1, 5, 2)
	is(t, "PopNode(1)", s.PopNode(1), 2)
	is(t, "PopNode(1)", s.PopNode(1), 0)
	nodesAre(t, s, 1)
}

// P6.3: changes between other items.
func TestChangeBetweenPlainly(t *testing.T) {
	s := elements("html", "body", "b", "i")
	s.Push(element(2, "u"))
	is(t, "Remove(1)", s.Remove(1), false)
	is(t, "Remove(9)", s.Remove(9), false)
	is(t, "Remove(2)", s.Remove(2), true)
	nodesAre(t, s, 1, 2, 3, 4)
	is(t, "Remove(3)", s.Remove(3), true)
	is(t, "Remove(3)", s.Remove(3), false)
	nodesAre(t, s, 1, 2, 4)
	is(t, "Replace(1, ..)", s.Replace(1, element(7, "x")), false)
	is(t, "Replace(9, ..)", s.Replace(9, element(7, "x")), false)
	is(t, "Replace(2, ..)", s.Replace(2, stack.Item{Node: 7, Space: api.SVG, Name: "x", Point: true}), true)
	is(t, "At(1)", s.At(1), stack.Item{Node: 7, Space: api.SVG, Name: "x", Point: true})
	nodesAre(t, s, 1, 7, 4)
	s.Insert(element(8, ""), 2)
	s.Insert(element(9, ""), 0)
	s.Insert(element(10, ""), 1)
	s.Insert(element(11, ""), -5)
	s.Insert(element(12, ""), 7)
	s.Insert(element(13, ""), 99)
	s.Insert(element(14, ""), 8)
	nodesAre(t, s, 1, 11, 10, 9, 7, 8, 4, 12, 14, 13)
	for _, at := range anyInts(2) {
		var empty stack.Stack
		empty.Insert(element(1, "html"), at)
		nodesAre(t, &empty, 1)
		empty.Insert(element(2, "body"), at)
		nodesAre(t, &empty, 1, 2)
	}
}

// P6.3: a node of the first item that stands further up, too.
func TestFirstItemTwice(t *testing.T) {
	s := stackOf(element(1, "html"), element(2, "p"), element(1, "b"), element(3, "i"))
	is(t, "Replace(1, ..)", s.Replace(1, element(4, "u")), true)
	nodesAre(t, s, 1, 2, 4, 3)
	is(t, "Replace(1, ..)", s.Replace(1, element(5, "u")), false)
	s.Insert(element(1, "b"), 2)
	is(t, "Remove(1)", s.Remove(1), true)
	is(t, "Remove(1)", s.Remove(1), false)
	nodesAre(t, s, 1, 2, 4, 3)
}

// P6.3, R4: the methods do not change the names that are passed.
func TestNamesStay(t *testing.T) {
	names := words("p td table")
	s := elements("html", "table", "td", "p", "b")
	s.InScope(stack.DefaultScope, names...)
	s.ClearTo(names...)
	s.PopUntil(names...)
	if !slices.Equal(names, words("p td table")) {
		t.Error(names)
	}
}

// P6.3: long sequences of calls.
func TestManyStackCalls(t *testing.T) {
	calls := slices.Concat(readings(), changes(), scopeCalls(), []stackCall{pop(), implied("p"), thorough(), popNode(2), popNode(3), popUntil("td"), clearTo("table", "html")})
	for _, item := range someItems() {
		for node := range 5 {
			item.Node = node
			calls = append(calls, push(item), insert(item, node))
		}
	}
	for seed := range uint64(200) {
		random := rand.New(rand.NewPCG(seed, 6))
		s := &stack.Stack{}
		for range 400 {
			if !checkStack(t, s, calls[random.IntN(len(calls))]) {
				return
			}
		}
	}
}

// R3: a nil stack.
func TestNilStack(t *testing.T) {
	for _, c := range slices.Concat(readings(), removals(), changes(), scopeCalls()) {
		is(t, c.name+" of nil", c.program(nil), c.empty)
	}
}

// P0.1: a stack of as many levels as the limits allow.
func TestDeepStack(t *testing.T) {
	const levels = 1 << 16
	s := &stack.Stack{}
	s.Push(element(1, "html"))
	for node := 2; node <= levels; node++ {
		s.Push(element(node, []string{"p", "b"}[node/(levels-1)]))
	}
	is(t, "Len()", s.Len(), levels)
	is(t, "Index(1)", s.Index(1), 0)
	is(t, "Furthest(1)", s.Furthest(1), 1)
	is(t, "InScope(x)", s.InScope(stack.DefaultScope, "x"), false)
	is(t, "InScope(html)", s.InScope(stack.SelectScope, "html"), false)
	is(t, "NodeInScope(1)", s.NodeInScope(stack.ButtonScope, 1), true)
	is(t, "Implied()", s.Implied(""), 0)
	is(t, "PopUntil(b)", s.PopUntil("b"), 1)
	is(t, "PopUntil(b)", s.PopUntil("b"), 1)
	s.Insert(element(levels, "i"), 1)
	is(t, "Remove(2)", s.Remove(2), true)
	is(t, "Implied()", s.Implied(""), levels-4)
	nodesAre(t, s, 1, levels)
}
