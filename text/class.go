package text

import "strings"

// IsSpace reports whether r is ASCII whitespace.
func IsSpace(r rune) bool {
	return listed("\t\n\f\r ")(r)
}

// IsUpper reports whether r is one of A to Z.
func IsUpper(r rune) bool {
	return between('A', 'Z')(r)
}

// IsLetter reports whether r is an ASCII letter.
func IsLetter(r rune) bool {
	return union(IsUpper, between('a', 'z'))(r)
}

// IsDigit reports whether r is an ASCII digit.
func IsDigit(r rune) bool {
	return between('0', '9')(r)
}

// IsHex reports whether r is an ASCII hexadecimal digit.
func IsHex(r rune) bool {
	return union(IsDigit, between('A', 'F'), between('a', 'f'))(r)
}

// IsAlnum reports whether r is an ASCII letter or digit.
func IsAlnum(r rune) bool {
	return union(IsLetter, IsDigit)(r)
}

// Lower returns s with A to Z replaced by a to z.
func Lower(s string) string {
	lowered := []byte(s)
	for i, b := range lowered {
		lowered[i] = lowerByte(b)
	}
	return string(lowered)
}

// EqualFold reports whether Lower(a) and Lower(b) are equal.
func EqualFold(a, b string) bool {
	if len(a) != len(b) {
		return false
	}
	for i := range len(a) {
		if lowerByte(a[i]) != lowerByte(b[i]) {
			return false
		}
	}
	return true
}

// AllSpace reports whether s consists of ASCII whitespace.
func AllSpace(s string) bool {
	return every(s, IsSpace)
}

func lowerByte(b byte) byte {
	if IsUpper(rune(b)) {
		return b - 'A' + 'a'
	}
	return b
}

// class is a set of characters. A byte counts as the character of its number.
type class func(r rune) bool

// between returns the class of the characters from low to high.
func between(low, high rune) class {
	return func(r rune) bool { return low <= r && r <= high }
}

// listed returns the class of the ASCII characters of chars.
func listed(chars string) class {
	return func(r rune) bool { return strings.ContainsRune(chars, r) }
}

// union returns the class of the characters that one of the classes has.
func union(classes ...class) class {
	return func(r rune) bool {
		for _, has := range classes {
			if has(r) {
				return true
			}
		}
		return false
	}
}

// outside returns the class of the characters that none of the classes has.
func outside(classes ...class) class {
	within := union(classes...)
	return func(r rune) bool { return !within(r) }
}

// every reports whether the class has every byte of s.
func every(s string, has class) bool {
	for i := range len(s) {
		if !has(rune(s[i])) {
			return false
		}
	}
	return true
}
