package arena

import "thicket/api"

// isSpace reports whether a namespace is one of the constants.
func isSpace(s api.Space) bool {
	return s >= api.NoSpace && s <= api.Other
}

// haveSpaces reports whether isSpace holds for the namespaces of all attributes.
func haveSpaces(attrs []api.Attr) bool {
	for _, attr := range attrs {
		if !isSpace(attr.Space) {
			return false
		}
	}
	return true
}

// once returns the first attribute of each namespace and name.
func once(attrs []api.Attr) []api.Attr {
	var first []api.Attr
	seen := map[api.Attr]bool{}
	for _, attr := range attrs {
		key := api.Attr{Space: attr.Space, Name: attr.Name}
		if !seen[key] {
			seen[key] = true
			first = append(first, attr)
		}
	}
	return first
}
