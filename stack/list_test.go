package stack_test

import (
	"math"
	"math/rand/v2"
	"slices"
	"strconv"
	"testing"

	"thicket/api"
	"thicket/stack"
)

func entry(node int, name string, attrs ...api.Attr) api.Entry {
	return api.Entry{Node: node, Name: name, Attrs: attrs}
}

// entriesAre reports which nodes the entries of a list have, if not those.
func entriesAre(t *testing.T, l *stack.List, want ...int) {
	t.Helper()
	var got []int
	for _, e := range l.Entries {
		got = append(got, e.Node)
	}
	if !slices.Equal(got, want) {
		t.Errorf("the nodes of the list are %v, want %v", got, want)
	}
}

// attributeLists are lists of which some make alike entries.
func attributeLists() [][]api.Attr {
	x, y := attr(0, "x", "1"), attr(0, "y", "")
	return [][]api.Attr{
		nil, {x}, {y}, {x, y}, {y, x}, {x, x}, {x, x, y}, {x, y, y}, {y, x, y}, {x, y, attr(0, "z", "")},
		{attr(0, "x", "2")}, {attr(api.XML, "x", "1")}, {attr(0, "X", "1")}, {attr(0, "x", "1"), attr(0, "y", "1")},
	}
}

// lists are lists of up to four entries, markers among them.
func lists(f func(entries []api.Entry)) {
	choice := []api.Entry{entry(1, "a"), entry(2, "b"), entry(1, "b", attr(0, "x", "1")), entry(3, ""), {}, entry(0, "b", attr(0, "x", "1"))}
	var extend func(entries []api.Entry)
	extend = func(entries []api.Entry) {
		f(entries)
		if len(entries) < 4 {
			for _, e := range choice {
				extend(append(slices.Clone(entries), e))
			}
		}
	}
	extend(nil)
}

// listCalls are all calls with arguments of all sorts.
func listCalls() []listCall {
	calls := []listCall{mark(), clearEntries(), find("a"), find("b"), find(""), find("B"), find("x")}
	given := []api.Entry{{}, entry(0, "b", attr(0, "y", "")), entry(1, "b"), entry(-1, "a"), entry(7, "b", attr(0, "x", "1")), entry(8, "")}
	for _, e := range given {
		calls = append(calls, pushEntry(e))
	}
	for _, i := range []int{-1, 0, 1, 2, 3, 4, 5, math.MinInt, math.MaxInt} {
		calls = append(calls, entryIndex(i), removeEntry(i))
		for _, e := range given {
			calls = append(calls, replaceEntry(i, e), insertEntry(e, i))
		}
	}
	return calls
}

// P6.5: all calls on all short lists.
func TestShortLists(t *testing.T) {
	calls := listCalls()
	lists(func(entries []api.Entry) {
		for _, c := range calls {
			if !checkList(t, entriesOf(entries...), c) {
				return
			}
		}
	})
}

// P6.5: which entries are alike, seen by which one Push removes.
func TestAlike(t *testing.T) {
	for _, attrs := range attributeLists() {
		for _, others := range attributeLists() {
			for _, name := range []string{"b", "B", "i", ""} {
				l := &stack.List{}
				for node := 1; node <= 3; node++ {
					checkList(t, l, pushEntry(entry(node, "b", attrs...)))
				}
				checkList(t, l, pushEntry(entry(4, name, others...)))
				checkList(t, l, pushEntry(entry(5, "b", attrs...)))
				checkList(t, l, pushEntry(entry(6, name, others...)))
			}
		}
	}
	x, y := attr(0, "x", "1"), attr(0, "y", "2")
	for _, c := range []struct {
		one, other []api.Attr
		alike      bool
	}{
		{nil, []api.Attr{}, true}, {[]api.Attr{x}, []api.Attr{x}, true}, {[]api.Attr{x, y}, []api.Attr{y, x}, true}, {[]api.Attr{x, x, y}, []api.Attr{y, y, x}, true},
		{nil, []api.Attr{x}, false}, {[]api.Attr{x}, nil, false}, {[]api.Attr{x}, []api.Attr{y}, false}, {[]api.Attr{x, y}, []api.Attr{x, x}, false}, {[]api.Attr{x, x}, []api.Attr{x, y}, false},
		{[]api.Attr{x}, []api.Attr{x, x}, false}, {[]api.Attr{x, x}, []api.Attr{x}, false}, {[]api.Attr{x}, []api.Attr{attr(0, "x", "")}, false}, {[]api.Attr{x}, []api.Attr{attr(api.XLink, "x", "1")}, false}, {[]api.Attr{x}, []api.Attr{attr(0, "X", "1")}, false},
	} {
		l := &stack.List{}
		for node := 1; node <= 3; node++ {
			l.Push(entry(node, "b", c.one...))
		}
		l.Push(entry(4, "b", c.other...))
		if c.alike {
			entriesAre(t, l, 2, 3, 4)
		} else {
			entriesAre(t, l, 1, 2, 3, 4)
		}
	}
}

// P6.5: which entry Push removes, and when it removes none.
func TestPush(t *testing.T) {
	l := &stack.List{}
	for node := 1; node <= 4; node++ {
		l.Push(entry(node, "b"))
	}
	entriesAre(t, l, 2, 3, 4)
	l.Mark()
	for node := 5; node <= 9; node++ {
		l.Push(entry(node, "b"))
	}
	entriesAre(t, l, 2, 3, 4, 0, 7, 8, 9)
	l.Push(entry(10, "i"))
	l.Push(entry(11, "b"))
	entriesAre(t, l, 2, 3, 4, 0, 8, 9, 10, 11)
	l.Push(entry(0, "b"))
	l.Push(entry(12, "b"))
	entriesAre(t, l, 2, 3, 4, 0, 8, 9, 10, 11, 0, 12)
	is(t, "the marker's name", l.Entries[8].Name, "b")
	many := entriesOf(entry(1, "i"), entry(2, "b"), entry(3, "b"), entry(4, "i"), entry(5, "b"), entry(6, "b"), entry(7, "b"))
	many.Push(entry(8, "b"))
	entriesAre(t, many, 1, 3, 4, 5, 6, 7, 8)
	many.Push(entry(9, "i"))
	many.Push(entry(10, "i"))
	entriesAre(t, many, 3, 4, 5, 6, 7, 8, 9, 10)
	same := &stack.List{}
	for range 5 {
		same.Push(entry(1, "b"))
	}
	entriesAre(t, same, 1, 1, 1)
	markers := &stack.List{}
	for range 5 {
		markers.Mark()
		markers.Push(entry(0, "b"))
	}
	entriesAre(t, markers, 0, 0, 0, 0, 0, 0, 0, 0, 0, 0)
}

// P6.5: a marker, and what stands behind it.
func TestMarkAndClear(t *testing.T) {
	l := &stack.List{}
	is(t, "Clear()", l.Clear(), 0)
	l.Mark()
	is(t, "the marker", sameEntry(l.Entries[0], api.Entry{}), true)
	is(t, "Clear()", l.Clear(), 1)
	is(t, "Clear()", l.Clear(), 0)
	l = entriesOf(entry(1, "a"), entry(2, "b"), entry(0, "b"), entry(3, "b"), api.Entry{}, entry(4, "i"), entry(5, "b"))
	is(t, "Clear()", l.Clear(), 3)
	entriesAre(t, l, 1, 2, 0, 3)
	is(t, "Clear()", l.Clear(), 2)
	entriesAre(t, l, 1, 2)
	is(t, "Clear()", l.Clear(), 2)
	entriesAre(t, l)
	l.Push(entry(6, "u"))
	entriesAre(t, l, 6)
}

// P6.5: searches, removals, replacements and insertions.
func TestListPlainly(t *testing.T) {
	l := entriesOf(entry(1, "a"), entry(2, "b"), api.Entry{Name: "b"}, entry(3, "i"), entry(2, "a"), entry(4, "i"))
	is(t, "Find(i)", l.Find("i"), 5)
	is(t, "Find(a)", l.Find("a"), 4)
	is(t, "Find(b)", l.Find("b"), -1)
	is(t, "Find(I)", l.Find("I"), -1)
	is(t, "Index(2)", l.Index(2), 4)
	is(t, "Index(1)", l.Index(1), 0)
	is(t, "Index(0)", l.Index(0), -1)
	is(t, "Index(9)", l.Index(9), -1)
	is(t, "Remove(0)", l.Remove(0), false)
	is(t, "Remove(9)", l.Remove(9), false)
	is(t, "Remove(2)", l.Remove(2), true)
	entriesAre(t, l, 1, 2, 0, 3, 4)
	is(t, "Remove(2)", l.Remove(2), true)
	is(t, "Remove(2)", l.Remove(2), false)
	entriesAre(t, l, 1, 0, 3, 4)
	is(t, "Replace(0, ..)", l.Replace(0, entry(5, "u")), false)
	is(t, "Replace(9, ..)", l.Replace(9, entry(5, "u")), false)
	is(t, "Replace(1, ..)", l.Replace(1, entry(5, "u", attr(0, "x", ""))), true)
	is(t, "the entry", l.Entries[0], entry(5, "u", attr(0, "x", "")))
	is(t, "Replace(3, marker)", l.Replace(3, api.Entry{Name: "i"}), true)
	is(t, "the marker", l.Entries[2].Node == 0 && l.Entries[2].Name == "i", true)
	entriesAre(t, l, 5, 0, 0, 4)
	is(t, "Clear()", l.Clear(), 2)
	l.Insert(entry(6, "b"), 1)
	l.Insert(entry(7, "b"), -1)
	l.Insert(entry(8, "b"), 0)
	l.Insert(entry(9, "b"), 5)
	l.Insert(entry(10, "b"), math.MaxInt)
	l.Insert(entry(11, "b"), math.MinInt)
	l.Insert(api.Entry{}, 7)
	entriesAre(t, l, 11, 8, 7, 5, 6, 0, 9, 0, 10)
}

// P6.5: Insert and Replace may make more than three entries alike.
func TestInsertAlike(t *testing.T) {
	l := &stack.List{}
	for node := 1; node <= 5; node++ {
		l.Insert(entry(node, "b"), 0)
	}
	entriesAre(t, l, 5, 4, 3, 2, 1)
	l.Push(entry(6, "b"))
	entriesAre(t, l, 4, 3, 2, 1, 6)
	is(t, "Replace(4, ..)", l.Replace(4, entry(7, "b")), true)
	entriesAre(t, l, 7, 3, 2, 1, 6)
}

// P6.5, R4: entries have attributes of their own.
func TestEntriesOwnAttributes(t *testing.T) {
	given := []api.Attr{attr(0, "x", "1"), attr(0, "y", "2")}
	e := api.Entry{Node: 1, Name: "b", Attrs: given}
	l := entriesOf(entry(9, "a"))
	l.Push(e)
	l.Insert(e, 0)
	l.Replace(9, e)
	if len(l.Entries) != 3 {
		t.Fatal(l.Entries)
	}
	given[0].Value = "changed"
	l.Entries[0].Attrs[1].Value = "changed"
	for i, want := range [][]api.Attr{{attr(0, "x", "1"), attr(0, "y", "changed")}, {attr(0, "x", "1"), attr(0, "y", "2")}, {attr(0, "x", "1"), attr(0, "y", "2")}} {
		if !slices.Equal(l.Entries[i].Attrs, want) {
			t.Errorf("the attributes of the entry %d are %v", i, l.Entries[i].Attrs)
		}
	}
	if !slices.Equal(given, []api.Attr{attr(0, "x", "changed"), attr(0, "y", "2")}) {
		t.Errorf("the list that was passed is %v", given)
	}
}

// fourAlike reports whether four entries between two markers are alike.
func fourAlike(entries []api.Entry) bool {
	for i, e := range entries {
		count := 0
		for _, f := range entries[i:] {
			if f.Node == 0 {
				break
			}
			if areAlike(e, f) {
				count++
			}
		}
		if count > 3 {
			return true
		}
	}
	return false
}

// P6.5: long sequences of all calls, and of those that keep entries from being
// alike.
func TestManyListCalls(t *testing.T) {
	keeping := []listCall{mark(), clearEntries()}
	for node := range 6 {
		for _, attrs := range attributeLists()[:6] {
			keeping = append(keeping, pushEntry(entry(node, []string{"b", "i"}[node%2], attrs...)))
		}
		keeping = append(keeping, pushEntry(entry(node+1, "b")), pushEntry(entry(node+1, "b")), removeEntry(node))
	}
	all := slices.Concat(keeping, listCalls())
	for seed := range uint64(80) {
		random := rand.New(rand.NewPCG(seed, 6))
		l, kept := &stack.List{}, &stack.List{}
		for range 150 {
			if !checkList(t, l, all[random.IntN(len(all))]) || !checkList(t, kept, keeping[random.IntN(len(keeping))]) {
				return
			}
			if fourAlike(kept.Entries) {
				t.Fatalf("four alike: %+v", kept.Entries)
			}
		}
	}
}

// R3: a nil list.
func TestNilList(t *testing.T) {
	for _, c := range listCalls() {
		is(t, c.name+" of nil", c.program(nil), c.empty)
	}
}

// P0.1: many entries, and many attributes.
func TestLongList(t *testing.T) {
	const many = 1 << 12
	l := &stack.List{}
	for node := 1; node <= many; node++ {
		l.Push(entry(node, "b", attr(0, "x", strconv.Itoa(node))))
	}
	is(t, "Index(1)", l.Index(1), 0)
	is(t, "Find(b)", l.Find("b"), many-1)
	is(t, "Clear()", l.Clear(), many)
	var attrs []api.Attr
	for i := range many {
		attrs = append(attrs, attr(0, strconv.Itoa(i), ""))
	}
	for node := 1; node <= 5; node++ {
		l.Push(entry(node, "b", attrs...))
	}
	slices.Reverse(attrs)
	l.Push(entry(6, "b", attrs...))
	entriesAre(t, l, 4, 5, 6)
}
