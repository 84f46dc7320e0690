// Package samples makes the many short strings that the tests of the layers
// try. The program itself does not use it.
package samples

// Joined calls f with every string that consists of at most most of the parts,
// the empty string included. A part may stand in a string more than once.
func Joined(parts []string, most int, f func(string)) {
	var extend func(s string, left int)
	extend = func(s string, left int) {
		f(s)
		if left <= 0 {
			return
		}
		for _, part := range parts {
			extend(s+part, left-1)
		}
	}
	extend("", most)
}

// Bytes returns the 256 strings of one byte.
func Bytes() []string {
	var all []string
	for b := range 256 {
		all = append(all, string([]byte{byte(b)}))
	}
	return all
}
