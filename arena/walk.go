package arena

import (
	"iter"
	"slices"

	"thicket/api"
)

// Walk returns an iterator over the preorder of a node.
func (a *Arena) Walk(h int) iter.Seq[int] {
	return func(yield func(int) bool) {
		for _, v := range a.preorder(h) {
			if !yield(v.handle) {
				return
			}
		}
	}
}

// visit is a step of a walk.
type visit struct {
	handle int
	depth  int // the number of steps down from the node where the walk begins
}

// preorder returns the visits of a walk from a node, or none if it does not
// exist. It does not call itself, so that the depth of a tree has no limit.
func (a *Arena) preorder(h int) []visit {
	if a.check(h) != api.OK {
		return nil
	}
	var done []visit
	todo := []visit{{handle: h}}
	for len(todo) > 0 {
		last := len(todo) - 1
		v := todo[last]
		todo = todo[:last]
		done = append(done, v)
		n := a.at(v.handle)
		for _, kid := range slices.Backward(n.Kids) {
			todo = append(todo, visit{kid, v.depth + 1})
		}
		if n.Contents != 0 {
			todo = append(todo, visit{n.Contents, v.depth + 1})
		}
	}
	return done
}
