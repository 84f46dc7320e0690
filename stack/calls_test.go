package stack_test

import (
	"fmt"
	"reflect"
	"slices"
	"testing"

	"thicket/api"
	"thicket/stack"
)

// stackCall is a call of a method of a stack, and one of its rules. Empty is the
// result for a nil stack.
type stackCall struct {
	name    string
	program func(s *stack.Stack) any
	rules   func(items []stack.Item) ([]stack.Item, any)
	empty   any
}

// reading is a call that changes nothing.
func reading(name string, program func(s *stack.Stack) any, rules func(items []stack.Item) any, empty any) stackCall {
	return stackCall{name, program, func(items []stack.Item) ([]stack.Item, any) { return items, rules(items) }, empty}
}

// changing is a call that tells what it did.
func changing[T any](name string, program func(s *stack.Stack) T, rules func(items []stack.Item) ([]stack.Item, T)) stackCall {
	var zero T
	return stackCall{
		name, func(s *stack.Stack) any { return program(s) },
		func(items []stack.Item) ([]stack.Item, any) {
			items, result := rules(items)
			return items, result
		}, zero,
	}
}

func push(item stack.Item) stackCall {
	return stackCall{
		fmt.Sprintf("Push(%+v)", item),
		func(s *stack.Stack) any { s.Push(item); return nil },
		func(items []stack.Item) ([]stack.Item, any) { return append(items, item), nil }, nil,
	}
}

func pop() stackCall {
	return changing("Pop()", (*stack.Stack).Pop, popByRules)
}

func top() stackCall {
	return reading("Top()", func(s *stack.Stack) any { return s.Top() }, func(items []stack.Item) any { return atByRules(items, len(items)-1) }, stack.Item{})
}

func length() stackCall {
	return reading("Len()", func(s *stack.Stack) any { return s.Len() }, func(items []stack.Item) any { return len(items) }, 0)
}

func at(i int) stackCall {
	return reading(fmt.Sprintf("At(%d)", i), func(s *stack.Stack) any { return s.At(i) }, func(items []stack.Item) any { return atByRules(items, i) }, stack.Item{})
}

func index(node int) stackCall {
	return reading(fmt.Sprintf("Index(%d)", node), func(s *stack.Stack) any { return s.Index(node) }, func(items []stack.Item) any { return highestNode(items, node) }, -1)
}

func last(name string) stackCall {
	rules := func(items []stack.Item) any {
		return highest(items, func(item stack.Item) bool { return isOneOf(item, name) })
	}
	return reading(fmt.Sprintf("Last(%q)", name), func(s *stack.Stack) any { return s.Last(name) }, rules, -1)
}

func inScope(scope stack.Scope, names ...string) stackCall {
	return reading(
		fmt.Sprintf("InScope(%d, %q)", scope, names),
		func(s *stack.Stack) any { return s.InScope(scope, names...) },
		func(items []stack.Item) any { return inScopeByRules(items, scope, names...) }, false,
	)
}

func nodeInScope(scope stack.Scope, node int) stackCall {
	return reading(
		fmt.Sprintf("NodeInScope(%d, %d)", scope, node),
		func(s *stack.Stack) any { return s.NodeInScope(scope, node) },
		func(items []stack.Item) any { return nodeInScopeByRules(items, scope, node) }, false,
	)
}

func furthest(node int) stackCall {
	return reading(fmt.Sprintf("Furthest(%d)", node), func(s *stack.Stack) any { return s.Furthest(node) }, func(items []stack.Item) any { return furthestByRules(items, node) }, -1)
}

func popUntil(names ...string) stackCall {
	return changing(
		fmt.Sprintf("PopUntil(%q)", names),
		func(s *stack.Stack) int { return s.PopUntil(names...) },
		func(items []stack.Item) ([]stack.Item, int) { return popUntilByRules(items, names...) },
	)
}

func popNode(node int) stackCall {
	return changing(
		fmt.Sprintf("PopNode(%d)", node),
		func(s *stack.Stack) int { return s.PopNode(node) },
		func(items []stack.Item) ([]stack.Item, int) { return popNodeByRules(items, node) },
	)
}

func implied(except string) stackCall {
	return changing(
		fmt.Sprintf("Implied(%q)", except),
		func(s *stack.Stack) int { return s.Implied(except) },
		func(items []stack.Item) ([]stack.Item, int) { return impliedByRules(items, except) },
	)
}

func thorough() stackCall {
	return changing("Thorough()", (*stack.Stack).Thorough, thoroughByRules)
}

func clearTo(names ...string) stackCall {
	return changing(
		fmt.Sprintf("ClearTo(%q)", names),
		func(s *stack.Stack) int { return s.ClearTo(names...) },
		func(items []stack.Item) ([]stack.Item, int) { return clearToByRules(items, names...) },
	)
}

func remove(node int) stackCall {
	return changing(
		fmt.Sprintf("Remove(%d)", node),
		func(s *stack.Stack) bool { return s.Remove(node) },
		func(items []stack.Item) ([]stack.Item, bool) { return removeByRules(items, node) },
	)
}

func replace(node int, item stack.Item) stackCall {
	return changing(
		fmt.Sprintf("Replace(%d, %+v)", node, item),
		func(s *stack.Stack) bool { return s.Replace(node, item) },
		func(items []stack.Item) ([]stack.Item, bool) { return replaceByRules(items, node, item) },
	)
}

func insert(item stack.Item, at int) stackCall {
	return stackCall{
		fmt.Sprintf("Insert(%+v, %d)", item, at),
		func(s *stack.Stack) any { s.Insert(item, at); return nil },
		func(items []stack.Item) ([]stack.Item, any) { return insertByRules(items, item, at), nil }, nil,
	}
}

// checkStack makes a call on a stack, and compares its result, and the stack
// afterwards, with the rules. The first item must stay the first one.
func checkStack(t *testing.T, s *stack.Stack, c stackCall) bool {
	t.Helper()
	before := slices.Clone(s.Items)
	items, want := c.rules(slices.Clone(before))
	if got := c.program(s); !reflect.DeepEqual(got, want) {
		t.Errorf("%+v: %s = %+v, want %+v", before, c.name, got, want)
		return false
	}
	if !slices.Equal(s.Items, items) {
		t.Errorf("%+v: %s makes %+v, want %+v", before, c.name, s.Items, items)
		return false
	}
	if len(before) > 0 && (len(s.Items) == 0 || s.Items[0] != before[0]) {
		t.Errorf("%+v: %s takes away the first item", before, c.name)
		return false
	}
	return true
}

// checkOn checks calls, each on a stack with these items.
func checkOn(t *testing.T, items []stack.Item, calls ...stackCall) {
	t.Helper()
	for _, c := range calls {
		if !checkStack(t, stackOf(items...), c) {
			return
		}
	}
}

// listCall is a call of a method of a list, and one of its rules. Empty is the
// result for a nil list.
type listCall struct {
	name    string
	program func(l *stack.List) any
	rules   func(entries []api.Entry) ([]api.Entry, any)
	empty   any
}

func pushEntry(e api.Entry) listCall {
	return listCall{
		fmt.Sprintf("Push(%+v)", e),
		func(l *stack.List) any { l.Push(e); return nil },
		func(entries []api.Entry) ([]api.Entry, any) { return pushEntryByRules(entries, e), nil }, nil,
	}
}

func mark() listCall {
	return listCall{
		"Mark()",
		func(l *stack.List) any { l.Mark(); return nil },
		func(entries []api.Entry) ([]api.Entry, any) { return append(entries, api.Entry{}), nil }, nil,
	}
}

func clearEntries() listCall {
	return listCall{
		"Clear()",
		func(l *stack.List) any { return l.Clear() },
		func(entries []api.Entry) ([]api.Entry, any) {
			entries, n := clearByRules(entries)
			return entries, n
		}, 0,
	}
}

func find(name string) listCall {
	return listCall{
		fmt.Sprintf("Find(%q)", name),
		func(l *stack.List) any { return l.Find(name) },
		func(entries []api.Entry) ([]api.Entry, any) { return entries, findByRules(entries, name) }, -1,
	}
}

func entryIndex(node int) listCall {
	return listCall{
		fmt.Sprintf("Index(%d)", node),
		func(l *stack.List) any { return l.Index(node) },
		func(entries []api.Entry) ([]api.Entry, any) { return entries, entryIndexByRules(entries, node) }, -1,
	}
}

func removeEntry(node int) listCall {
	return listCall{
		fmt.Sprintf("Remove(%d)", node),
		func(l *stack.List) any { return l.Remove(node) },
		func(entries []api.Entry) ([]api.Entry, any) {
			entries, did := removeEntryByRules(entries, node)
			return entries, did
		}, false,
	}
}

func replaceEntry(node int, e api.Entry) listCall {
	return listCall{
		fmt.Sprintf("Replace(%d, %+v)", node, e),
		func(l *stack.List) any { return l.Replace(node, e) },
		func(entries []api.Entry) ([]api.Entry, any) {
			entries, did := replaceEntryByRules(entries, node, e)
			return entries, did
		}, false,
	}
}

func insertEntry(e api.Entry, at int) listCall {
	return listCall{
		fmt.Sprintf("Insert(%+v, %d)", e, at),
		func(l *stack.List) any { l.Insert(e, at); return nil },
		func(entries []api.Entry) ([]api.Entry, any) { return insertEntryByRules(entries, e, at), nil }, nil,
	}
}

// sameEntry does not tell a nil list from an empty one.
func sameEntry(e, f api.Entry) bool {
	return e.Node == f.Node && e.Name == f.Name && slices.Equal(e.Attrs, f.Attrs)
}

// entriesOf returns a list with memory of its own.
func entriesOf(entries ...api.Entry) *stack.List {
	l := &stack.List{}
	for _, e := range entries {
		e.Attrs = slices.Clone(e.Attrs)
		l.Entries = append(l.Entries, e)
	}
	return l
}

// checkList makes a call on a list, and compares its result, and the list
// afterwards, with the rules.
func checkList(t *testing.T, l *stack.List, c listCall) bool {
	t.Helper()
	before := entriesOf(l.Entries...).Entries
	entries, want := c.rules(slices.Clone(before))
	if got := c.program(l); !reflect.DeepEqual(got, want) {
		t.Errorf("%+v: %s = %+v, want %+v", before, c.name, got, want)
		return false
	}
	if !slices.EqualFunc(l.Entries, entries, sameEntry) {
		t.Errorf("%+v: %s makes %+v, want %+v", before, c.name, l.Entries, entries)
		return false
	}
	return true
}
