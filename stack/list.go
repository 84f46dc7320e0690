package stack

import (
	"slices"

	"thicket/api"
)

// List is the list of active formatting elements. The zero List is empty.
type List struct{ Entries []api.Entry }

// mostAlike is how many entries behind a marker may be alike when one is added.
const mostAlike = 3

// Push adds an entry at the end. If three entries behind the last marker are
// alike to it, it removes the first one of them.
func (l *List) Push(e api.Entry) {
	if l == nil {
		return
	}
	if !isMarker(e) {
		l.makeRoom(e)
	}
	l.Entries = append(l.Entries, copied(e))
}

// Mark adds a marker at the end.
func (l *List) Mark() {
	l.Push(api.Entry{})
}

// Clear removes the last marker and the entries behind it, and returns how many
// it removed.
func (l *List) Clear() int {
	n := len(l.entries()) - max(lastIndex(l.entries(), isMarker), 0)
	if n > 0 {
		l.Entries = splice(l.Entries, len(l.Entries)-n, n)
	}
	return n
}

// Find returns the index of the last entry behind the last marker with a name.
func (l *List) Find(name string) int {
	index := lastIndex(l.entries(), func(e api.Entry) bool { return isMarker(e) || e.Name == name })
	if index < 0 || isMarker(l.Entries[index]) {
		return -1
	}
	return index
}

// Index returns the index of the last entry with a node.
func (l *List) Index(node int) int {
	return lastIndex(l.entries(), func(e api.Entry) bool { return !isMarker(e) && e.Node == node })
}

// Remove removes the last entry with a node.
func (l *List) Remove(node int) bool {
	index := l.Index(node)
	if index < 0 {
		return false
	}
	l.Entries = splice(l.Entries, index, 1)
	return true
}

// Replace puts another entry in the place of the last one with a node.
func (l *List) Replace(node int, e api.Entry) bool {
	index := l.Index(node)
	if index < 0 {
		return false
	}
	l.Entries[index] = copied(e)
	return true
}

// Insert adds an entry at an index.
func (l *List) Insert(e api.Entry, at int) {
	if l != nil {
		l.Entries = splice(l.Entries, min(max(at, 0), len(l.Entries)), 0, copied(e))
	}
}

// entries returns the entries of a list, which may be nil.
func (l *List) entries() []api.Entry {
	if l == nil {
		return nil
	}
	return l.Entries
}

// makeRoom removes the first entry behind the last marker that is alike to an
// entry, if there are too many of them to add this one.
func (l *List) makeRoom(e api.Entry) {
	var first, count int
	for i := len(l.Entries) - 1; i >= 0 && !isMarker(l.Entries[i]); i-- {
		if alike(l.Entries[i], e) {
			first = i
			count++
		}
	}
	if count >= mostAlike {
		l.Entries = splice(l.Entries, first, 1)
	}
}

func isMarker(e api.Entry) bool {
	return e.Node == 0
}

// copied returns an entry with attributes of its own.
func copied(e api.Entry) api.Entry {
	e.Attrs = slices.Clone(e.Attrs)
	return e
}

func alike(e, f api.Entry) bool {
	return e.Name == f.Name && len(e.Attrs) == len(f.Attrs) && hasAll(e.Attrs, f.Attrs) && hasAll(f.Attrs, e.Attrs)
}

// hasAll reports whether all of some attributes occur among others, which are
// as many. Mostly each one stands at the same place, so this is tried first.
func hasAll(others, some []api.Attr) bool {
	for i, attr := range some {
		if others[i] != attr && !slices.Contains(others, attr) {
			return false
		}
	}
	return true
}
