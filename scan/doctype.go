package scan

import (
	"thicket/api"
	"thicket/text"
)

// doctypeState is what a document type declaration has been read up to.
type doctypeState int

const (
	behindKeyword doctypeState = iota
	beforeName
	inName
	afterName
	afterPublicKeyword
	beforePublic
	inPublic
	afterPublic
	betweenIdentifiers
	afterSystemKeyword
	beforeSystem
	inSystem
	afterSystem
	bogus
)

// doctypeReader is a declaration that is being read.
type doctypeReader struct {
	cursor
	state doctypeState
	quote string // opened the identifier
	t     api.Token
}

// Doctype reads a document type declaration behind its keyword.
func Doctype(s string, at int) (t api.Token, next int) {
	d := doctypeReader{cursor: cursorAt(s, at), t: api.Token{Kind: api.DoctypeToken}}
	for !d.finished() {
		d.step()
	}
	return d.t, d.at
}

// finished reports whether the declaration ends here, as it does with the
// string and with a ">" in every state, and consumes its end.
func (d *doctypeReader) finished() bool {
	switch {
	case d.ended():
		d.t.Quirks = d.t.Quirks || d.state != bogus
	case d.took(">"):
		d.t.Quirks = d.t.Quirks || d.incomplete()
	default:
		return false
	}
	return true
}

// incomplete reports whether a ">" comes too early in this state.
func (d *doctypeReader) incomplete() bool {
	switch d.state {
	case behindKeyword, beforeName,
		afterPublicKeyword, beforePublic, inPublic,
		afterSystemKeyword, beforeSystem, inSystem:
		return true
	}
	return false
}

// step reads what comes next. Where a state differs from the one behind it in
// nothing but that it is the first, it becomes that one.
func (d *doctypeReader) step() {
	switch d.state {
	case behindKeyword:
		d.state = beforeName
		fallthrough
	case beforeName:
		if !d.tookSpaces() {
			d.state, d.t.HasName = inName, true
		}
	case inName:
		d.t.Name = text.Lower(kept(d.until(endsWord)))
		d.state = afterName
	case afterName:
		d.readKeyword()
	case afterPublicKeyword:
		d.state = beforePublic
		fallthrough
	case beforePublic:
		d.openIdentifier(inPublic, &d.t.HasPublic)
	case inPublic:
		d.readIdentifier(afterPublic, &d.t.Public)
	case afterPublic:
		d.state = betweenIdentifiers
		fallthrough
	case betweenIdentifiers:
		d.openIdentifier(inSystem, &d.t.HasSystem)
	case afterSystemKeyword:
		d.state = beforeSystem
		fallthrough
	case beforeSystem:
		d.openIdentifier(inSystem, &d.t.HasSystem)
	case inSystem:
		d.readIdentifier(afterSystem, &d.t.System)
	case afterSystem:
		if !d.tookSpaces() {
			d.state = bogus
		}
	case bogus:
		d.until(isGreater)
	}
}

// fail gives up a malformed declaration: its rest is passed over.
func (d *doctypeReader) fail() {
	d.state, d.t.Quirks = bogus, true
}

func (d *doctypeReader) readKeyword() {
	switch {
	case d.tookSpaces():
	case d.tookFolded("public"):
		d.state = afterPublicKeyword
	case d.tookFolded("system"):
		d.state = afterSystemKeyword
	default:
		d.fail()
	}
}

// openIdentifier reads the quote before an identifier, which the declaration
// has from then on, even if nothing follows.
func (d *doctypeReader) openIdentifier(inside doctypeState, has *bool) {
	switch {
	case d.tookSpaces():
	case d.sees(isQuote):
		d.quote = d.take(1)
		d.state, *has = inside, true
	default:
		d.fail()
	}
}

// readIdentifier reads an identifier and its closing quote. If that is missing,
// the state stays, and the declaration is finished in it.
func (d *doctypeReader) readIdentifier(behind doctypeState, identifier *string) {
	*identifier = kept(d.until(func(r rune) bool { return r == '>' || string(r) == d.quote }))
	if d.took(d.quote) {
		d.state = behind
	}
}
