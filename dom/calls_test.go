package dom_test

import (
	"fmt"

	"thicket/api"
	"thicket/arena"
	"thicket/dom"
)

func validate(parent, node, child int) call {
	return call{
		fmt.Sprintf("Validate(%d, %d, %d)", parent, node, child),
		func(a *arena.Arena) result { return result{Error: dom.Validate(a, parent, node, child)} },
		func(a *arena.Arena) result { return result{Error: validateByRules(a, parent, node, child)} },
	}
}

func insert(parent, node, child int) call {
	return call{
		fmt.Sprintf("Insert(%d, %d, %d)", parent, node, child),
		func(a *arena.Arena) result { return result{Error: dom.Insert(a, parent, node, child)} },
		func(a *arena.Arena) result { return result{Error: insertByRules(a, parent, node, child)} },
	}
}

func appending(parent, node int) call {
	return call{
		fmt.Sprintf("Append(%d, %d)", parent, node),
		func(a *arena.Arena) result { return result{Error: dom.Append(a, parent, node)} },
		func(a *arena.Arena) result { return result{Error: insertByRules(a, parent, node, 0)} },
	}
}

func replace(parent, node, child int) call {
	return call{
		fmt.Sprintf("Replace(%d, %d, %d)", parent, node, child),
		func(a *arena.Arena) result { return result{Error: dom.Replace(a, parent, node, child)} },
		func(a *arena.Arena) result { return result{Error: replaceByRules(a, parent, node, child)} },
	}
}

func remove(parent, child int) call {
	return call{
		fmt.Sprintf("Remove(%d, %d)", parent, child),
		func(a *arena.Arena) result { return result{Error: dom.Remove(a, parent, child)} },
		func(a *arena.Arena) result { return result{Error: removeByRules(a, parent, child)} },
	}
}

func detach(node int) call {
	return call{
		fmt.Sprintf("Detach(%d)", node),
		func(a *arena.Arena) result { return result{Error: dom.Detach(a, node)} },
		func(a *arena.Arena) result { return result{Error: a.Cut(node)} },
	}
}

func replaceAll(parent, node int) call {
	return call{
		fmt.Sprintf("ReplaceAll(%d, %d)", parent, node),
		func(a *arena.Arena) result { return result{Error: dom.ReplaceAll(a, parent, node)} },
		func(a *arena.Arena) result { return result{Error: replaceAllByRules(a, parent, node)} },
	}
}

func adopt(node, doc int) call {
	return call{
		fmt.Sprintf("Adopt(%d, %d)", node, doc),
		func(a *arena.Arena) result { return result{Error: dom.Adopt(a, node, doc)} },
		func(a *arena.Arena) result { return result{Error: adoptByRules(a, node, doc)} },
	}
}

func handleResult(h int, e api.Errno) result {
	return result{Handle: h, Error: e}
}

func createElement(doc int, name string) call {
	return call{
		fmt.Sprintf("CreateElement(%d, %q)", doc, name),
		func(a *arena.Arena) result { return handleResult(dom.CreateElement(a, doc, name)) },
		func(a *arena.Arena) result { return handleResult(createElementByRules(a, doc, name)) },
	}
}

func valueResult(value string, is bool, e api.Errno) result {
	return result{Text: value, Is: is, Error: e}
}

func attribute(el int, space api.Space, name string) call {
	return call{
		fmt.Sprintf("Attribute(%d, %d, %q)", el, space, name),
		func(a *arena.Arena) result { return valueResult(dom.Attribute(a, el, space, name)) },
		func(a *arena.Arena) result { return valueResult(attributeByRules(a, el, space, name)) },
	}
}

func setAttribute(el int, space api.Space, name, value string) call {
	return call{
		fmt.Sprintf("SetAttribute(%d, %d, %q, %q)", el, space, name, value),
		func(a *arena.Arena) result { return result{Error: dom.SetAttribute(a, el, space, name, value)} },
		func(a *arena.Arena) result { return result{Error: setAttributeByRules(a, el, space, name, value)} },
	}
}

func boolResult(is bool, e api.Errno) result {
	return result{Is: is, Error: e}
}

func removeAttribute(el int, space api.Space, name string) call {
	return call{
		fmt.Sprintf("RemoveAttribute(%d, %d, %q)", el, space, name),
		func(a *arena.Arena) result { return boolResult(dom.RemoveAttribute(a, el, space, name)) },
		func(a *arena.Arena) result { return boolResult(removeAttributeByRules(a, el, space, name)) },
	}
}

func clone(h int, deep bool) call {
	return call{
		fmt.Sprintf("Clone(%d, %v)", h, deep),
		func(a *arena.Arena) result { return handleResult(dom.Clone(a, h, deep)) },
		func(a *arena.Arena) result { return handleResult(cloneByRules(a, h, deep)) },
	}
}

// importing imports from another arena.
func importing(doc int, from *arena.Arena, h int) call {
	return call{
		fmt.Sprintf("Import(%d, other, %d)", doc, h),
		func(a *arena.Arena) result { return handleResult(dom.Import(a, doc, from, h)) },
		func(a *arena.Arena) result { return handleResult(importByRules(a, doc, from, h)) },
	}
}

// importingOwn imports from the same arena.
func importingOwn(doc, h int) call {
	return call{
		fmt.Sprintf("Import(%d, same, %d)", doc, h),
		func(a *arena.Arena) result { return handleResult(dom.Import(a, doc, a, h)) },
		func(a *arena.Arena) result { return handleResult(importByRules(a, doc, a, h)) },
	}
}

func textResult(s string, e api.Errno) result {
	return result{Text: s, Error: e}
}

func textContent(h int) call {
	return call{
		fmt.Sprintf("TextContent(%d)", h),
		func(a *arena.Arena) result { return textResult(dom.TextContent(a, h)) },
		func(a *arena.Arena) result { return textResult(textContentByRules(a, h)) },
	}
}

func setTextContent(h int, s string) call {
	return call{
		fmt.Sprintf("SetTextContent(%d, %q)", h, s),
		func(a *arena.Arena) result { return result{Error: dom.SetTextContent(a, h, s)} },
		func(a *arena.Arena) result { return result{Error: setTextContentByRules(a, h, s)} },
	}
}

func normalize(h int) call {
	return call{
		fmt.Sprintf("Normalize(%d)", h),
		func(a *arena.Arena) result { return result{Error: dom.Normalize(a, h)} },
		func(a *arena.Arena) result { return result{Error: normalizeByRules(a, h)} },
	}
}

func split(h, at int) call {
	return call{
		fmt.Sprintf("Split(%d, %d)", h, at),
		func(a *arena.Arena) result { return handleResult(dom.Split(a, h, at)) },
		func(a *arena.Arena) result { return handleResult(splitByRules(a, h, at)) },
	}
}

// listResult is the same for a nil list and an empty one.
func listResult(list []int) result {
	return result{List: append([]int(nil), list...)}
}

func byName(h int, name string) call {
	return call{
		fmt.Sprintf("ByName(%d, %q)", h, name),
		func(a *arena.Arena) result { return listResult(dom.ByName(a, h, name)) },
		func(a *arena.Arena) result { return listResult(byNameByRules(a, h, name)) },
	}
}

func byID(h int, id string) call {
	return call{
		fmt.Sprintf("ByID(%d, %q)", h, id),
		func(a *arena.Arena) result { return result{Handle: dom.ByID(a, h, id)} },
		func(a *arena.Arena) result { return result{Handle: byIDByRules(a, h, id)} },
	}
}

func before(h, k int) call {
	return call{
		fmt.Sprintf("Before(%d, %d)", h, k),
		func(a *arena.Arena) result { return result{Is: dom.Before(a, h, k)} },
		func(a *arena.Arena) result { return result{Is: beforeByRules(a, h, k)} },
	}
}

// other is a change by layer 4, which is the same for the package and the rules.
func other(name string, f func(a *arena.Arena)) call {
	same := func(a *arena.Arena) result {
		f(a)
		return result{}
	}
	return call{name, same, same}
}
