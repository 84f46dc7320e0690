package builder

import "thicket/api"

// row is what one name says of the mode.
type row struct {
	name  string
	mode  api.Mode
	above bool // whether it says nothing if it is the name of the first item
}

// rows returns the names of elements for which the mode depends on nothing else.
func rows() []row {
	return []row{
		{"td", api.InCell, true},
		{"th", api.InCell, true},
		{"tr", api.InRow, false},
		{"tbody", api.InTableBody, false},
		{"thead", api.InTableBody, false},
		{"tfoot", api.InTableBody, false},
		{"caption", api.InCaption, false},
		{"colgroup", api.InColumns, false},
		{"table", api.InTable, false},
		{"head", api.InHead, true},
		{"body", api.InBody, false},
		{"frameset", api.InFrameset, false},
	}
}

// Reset sets the appropriate insertion mode.
func (b *Builder) Reset() {
	if b.isNone() {
		return
	}
	b.Mode = api.InBody
	table := rows()
	for i := b.Open.Len() - 1; i >= 0; i-- {
		if mode, ok := b.modeAt(i, table); ok {
			b.Mode = mode
			return
		}
	}
}

// modeAt returns the mode that the item with an index determines, if it does.
func (b *Builder) modeAt(index int, table []row) (api.Mode, bool) {
	item := b.Open.At(index)
	if index == 0 && b.Fragment {
		item = b.Context
	}
	if item.Space != api.HTML {
		return 0, false
	}
	switch item.Name {
	case "select":
		return b.selectMode(index), true
	case "template":
		return b.templateMode(), true
	case "html":
		return b.htmlMode(), true
	}
	for _, r := range table {
		if r.name == item.Name && (index > 0 || !r.above) {
			return r.mode, true
		}
	}
	return 0, false
}

// selectMode returns the mode for a select with an index.
func (b *Builder) selectMode(index int) api.Mode {
	for i := index - 1; i >= 0; i-- {
		switch item := b.Open.At(i); {
		case isNamed(item, "template"):
			return api.InSelect
		case isNamed(item, "table"):
			return api.InSelectInTable
		}
	}
	return api.InSelect
}

// templateMode returns the current template insertion mode.
func (b *Builder) templateMode() api.Mode {
	if len(b.Templates) == 0 {
		return api.InBody
	}
	return b.Templates[len(b.Templates)-1]
}

func (b *Builder) htmlMode() api.Mode {
	if b.Head == 0 {
		return api.BeforeHead
	}
	return api.AfterHead
}
