package stack

import "slices"

// lastIndex returns the index of the last element of a list that a condition
// holds for, or -1.
func lastIndex[T any](list []T, holds func(T) bool) int {
	for i := len(list) - 1; i >= 0; i-- {
		if holds(list[i]) {
			return i
		}
	}
	return -1
}

// splice puts elements into a list, from an index on, in the place of as many
// others as count says. The list that was passed must not be used any more.
func splice[T any](list []T, at, count int, elements ...T) []T {
	return slices.Replace(list, at, at+count, elements...)
}
