package text

// ValidElement reports whether an element may be created with this name.
func ValidElement(name string) bool {
	if name == "" {
		return false
	}
	first, rest := rune(name[0]), name[1:]
	beyondASCII := between(0x80, 0xFF)
	starts := union(listed(":_"), beyondASCII)
	switch {
	case IsLetter(first):
		return every(rest, outside(IsSpace, listed("\x00/>")))
	case starts(first):
		return every(rest, union(IsAlnum, listed("-.:_"), beyondASCII))
	}
	return false
}

// ValidAttribute reports whether an attribute may be created with this name.
func ValidAttribute(name string) bool {
	return name != "" && every(name, outside(IsSpace, listed("\x00/=>")))
}
