package arena_test

import (
	"slices"
	"testing"

	"thicket/api"
	"thicket/arena"
)

// P4.2: the node, its contents, its children.
func TestWalk(t *testing.T) {
	a := page(t)
	for h, want := range map[int][]int{
		1: {1, 2, 3, 4, 5, 7, 9, 10, 11, 12, 13, 8, 14}, 3: {3, 4, 5, 7, 9, 10, 11, 12, 13, 8, 14}, 5: {5, 7, 9, 10, 11, 12, 13, 8}, 6: {6}, 7: {7, 9, 10, 11, 12, 13},
		11: {11, 12, 13}, 12: {12, 13}, 13: {13}, 15: {15, 16}, 17: {17, 18, 19}, 21: {21},
	} {
		if got := collect(a.Walk(h)); !slices.Equal(got, want) {
			t.Errorf("Walk(%d): %v, want %v", h, got, want)
		}
	}
}

// P4.2: nothing, but never no iterator.
func TestWalkOfNothing(t *testing.T) {
	a := page(t)
	for _, h := range noHandles() {
		if seq := a.Walk(h); seq == nil || collect(seq) != nil {
			t.Errorf("Walk(%d)", h)
		}
	}
	var none *arena.Arena
	for _, h := range anyHandles() {
		if seq := none.Walk(h); seq == nil || collect(seq) != nil {
			t.Errorf("Walk(%d) of nil", h)
		}
	}
}

// P4.2: the iterator stops when its consumer does, wherever that is.
func TestWalkStops(t *testing.T) {
	seq := page(t).Walk(1)
	all := collect(seq)
	for stop := range all {
		var got []int
		seq(func(h int) bool {
			got = append(got, h)
			return len(got) <= stop
		})
		if !slices.Equal(got, all[:stop+1]) {
			t.Errorf("a consumer that stops at %d got %v", stop, got)
		}
	}
}

// P4.2: each use yields the whole preorder, also within a loop over itself.
func TestWalkAgain(t *testing.T) {
	seq := page(t).Walk(1)
	all := collect(seq)
	for range seq {
		break
	}
	for range 3 {
		if got := collect(seq); !slices.Equal(got, all) {
			t.Errorf("%v, want %v", got, all)
		}
	}
	i := 0
	for h := range seq {
		if h != all[i] || !slices.Equal(collect(seq), all) {
			t.Errorf("%d within a loop", h)
		}
		i++
	}
	if i != len(all) {
		t.Errorf("%d rounds", i)
	}
}

// P4.2: changes during an iteration are not visible in it, but in the next one.
func TestWalkDuringChanges(t *testing.T) {
	a := page(t)
	seq := a.Walk(1)
	all := collect(seq)
	changes := []change{
		cut(3), put(1, 20, 2), put(2, 4, 0), put(5, 16, 0), put(12, 10, 13), put(7, 18, 9), cut(9), cut(11), put(21, 3, 0),
		element(1, api.HTML, "template"), put(1, 21, 0), cut(2), put(22, 14, 0),
	}
	var got []int
	for h := range seq {
		got = append(got, h)
		if len(got) <= len(changes) {
			changes[len(got)-1].call(a)
		}
	}
	if !slices.Equal(got, all) {
		t.Errorf("%v, want %v", got, all)
	}
	if got := collect(seq); !slices.Equal(got, []int{1, 20, 21, 3, 4, 5, 7, 18, 8, 16}) {
		t.Errorf("the next iteration: %v", got)
	}
}

// P4.2: an iteration begins when the iterator is used, not when it is made.
func TestWalkBegins(t *testing.T) {
	a := page(t)
	seq := a.Walk(15)
	a.Put(15, 20, 16)
	a.Cut(16)
	if got := collect(seq); !slices.Equal(got, []int{15, 20}) {
		t.Errorf("%v", got)
	}
}
