package arena_test

import (
	"math"
	"slices"
	"testing"

	"thicket/api"
	"thicket/arena"
)

// soundByRules follows the chapter's rules for Sound word for word.
func soundByRules(nodes []api.Node) bool {
	r := &byRules{nodes: nodes}
	for h := 1; h <= len(nodes); h++ {
		n := r.node(h)
		if !r.rule1(*n) || !rule2(*n) || !r.rule3(h) || !r.rule5(h) || !r.rule6(h) {
			return false
		}
	}
	for h := 1; h <= len(nodes); h++ {
		if !r.rule4(h) {
			return false
		}
	}
	return true
}

func isTemplate(n api.Node) bool {
	return n.Kind == api.Element && n.Space == api.HTML && n.Name == "template"
}

func (r *byRules) rule1(n api.Node) bool {
	is := func(kinds ...api.Kind) bool { return slices.Contains(kinds, n.Kind) }
	return is(api.Document, api.Fragment, api.Doctype, api.Element, api.Text, api.Comment) &&
		(is(api.Document, api.Fragment, api.Element) || len(n.Kids) == 0) &&
		(is(api.Element) || n.Space == api.NoSpace) &&
		(is(api.Element) || len(n.Attrs) == 0) &&
		(is(api.Element, api.Doctype) || n.Name == "") &&
		(is(api.Doctype) || n.Public == "") &&
		(is(api.Doctype) || n.System == "") &&
		(is(api.Text, api.Comment) || n.Data == "") &&
		(is(api.Document) || !n.Quirks) &&
		(isTemplate(n) || n.Contents == 0) &&
		(is(api.Fragment) || n.Host == 0)
}

func rule2(n api.Node) bool {
	return isOneOf(n.Space) && allOneOf(n.Attrs) && len(firstOnes(n.Attrs)) == len(n.Attrs)
}

func (r *byRules) rule3(h int) bool {
	n := r.node(h)
	if n.Parent != 0 && (!r.exists(n.Parent) || n.Kind == api.Document || n.Kind == api.Fragment) {
		return false
	}
	for i, kid := range n.Kids {
		if !r.exists(kid) || slices.Contains(n.Kids[:i], kid) {
			return false
		}
	}
	for k := 1; k <= len(r.nodes); k++ {
		if slices.Contains(n.Kids, k) != (r.node(k).Parent == h) {
			return false
		}
	}
	return true
}

// rule4 goes upward as many steps as there are nodes. More are not needed.
func (r *byRules) rule4(h int) bool {
	at := h
	for range r.nodes {
		if n := r.node(at); n.Parent != 0 {
			at = n.Parent
		} else {
			at = n.Host
		}
		if at == h {
			return false
		}
		if at == 0 {
			break
		}
	}
	return true
}

func (r *byRules) rule5(h int) bool {
	doc := r.node(h).Doc
	if r.node(h).Kind == api.Document {
		return doc == h
	}
	return r.exists(doc) && r.node(doc).Kind == api.Document
}

func (r *byRules) rule6(h int) bool {
	n := r.node(h)
	if isTemplate(*n) && (!r.exists(n.Contents) || r.node(n.Contents).Kind != api.Fragment || r.node(n.Contents).Host != h) {
		return false
	}
	return n.Host == 0 || r.exists(n.Host) && isTemplate(*r.node(n.Host)) && r.node(n.Host).Contents == h
}

func checkSound(t *testing.T, nodes []api.Node) bool {
	t.Helper()
	want := soundByRules(nodes)
	if arena.Sound(nodes) != want {
		t.Errorf("Sound is %v for %+v", !want, nodes)
	}
	return want
}

// P4.6: what an arena stores is sound, and so is the empty list.
func TestNodesAreSound(t *testing.T) {
	if !arena.Sound(nil) || !arena.Sound([]api.Node{}) || !arena.Sound(arena.New().Nodes()) {
		t.Error("no nodes are not sound")
	}
	if !arena.Sound(page(t).Nodes()) || !checkSound(t, page(t).Nodes()) {
		t.Error("a page is not sound")
	}
	for _, attrs := range attributeLists() {
		a := page(t)
		a.Element(1, api.HTML, "template", attrs)
		a.SetAttrs(14, attrs)
		if !arena.Sound(a.Nodes()) {
			t.Errorf("attributes %v are not sound", attrs)
		}
	}
	for _, c := range pageMakers() {
		a := page(t)
		c.call(a)
		if !arena.Sound(a.Nodes()) {
			t.Errorf("a page is not sound after %s", c.name)
		}
	}
}

// P4.6: each field of each node, set to many values.
func TestSoundWithOneFieldSpoilt(t *testing.T) {
	numbers := append(anyHandles(), 256, 1<<32+1)
	lists := [][]int{nil, {}, {0}, {-1}, {pageNodes + 1}, {math.MaxInt}, {math.MinInt}}
	for h := 1; h <= pageNodes; h++ {
		lists = append(lists, []int{h}, []int{h, h}, []int{20, h}, []int{h, 0}, []int{2, 3, h}, []int{h, 9})
	}
	for h := 1; h <= pageNodes; h++ {
		spoil := func(set func(n *api.Node)) {
			nodes := pageByRules().nodes
			set(&nodes[h-1])
			checkSound(t, nodes)
		}
		for _, number := range numbers {
			spoil(func(n *api.Node) { n.Kind = api.Kind(number) })
			spoil(func(n *api.Node) { n.Parent = number })
			spoil(func(n *api.Node) { n.Doc = number })
			spoil(func(n *api.Node) { n.Space = api.Space(number) })
			spoil(func(n *api.Node) { n.Contents = number })
			spoil(func(n *api.Node) { n.Host = number })
			spoil(func(n *api.Node) { n.Attrs = []api.Attr{attr(api.Space(number), "a", "b")} })
			spoil(func(n *api.Node) { n.Attrs = []api.Attr{attr(0, "a", "b"), attr(api.Space(number), "a", "c")} })
			spoil(func(n *api.Node) { n.Kids = append(n.Kids, number) })
		}
		for _, kids := range lists {
			spoil(func(n *api.Node) { n.Kids = kids })
		}
		for _, s := range strange() {
			spoil(func(n *api.Node) { n.Name = s })
			spoil(func(n *api.Node) { n.Data = s })
			spoil(func(n *api.Node) { n.Public = s })
			spoil(func(n *api.Node) { n.System = s })
		}
		spoil(func(n *api.Node) { n.Quirks = !n.Quirks })
		spoil(func(n *api.Node) { n.Attrs = []api.Attr{} })
		spoil(func(n *api.Node) { slices.Reverse(n.Kids) })
	}
}

// P4.6: each attribute list, on an element and elsewhere.
func TestSoundAttributes(t *testing.T) {
	for _, attrs := range attributeLists() {
		for _, h := range []int{4, 5, 14, 18} {
			nodes := pageByRules().nodes
			nodes[h-1].Attrs = attrs
			checkSound(t, nodes)
		}
	}
}

// P4.6: a field that the kind of a node does not use.
func TestSoundUnusedFields(t *testing.T) {
	used := map[api.Kind][]string{
		api.Document: {"Kids", "Quirks"}, api.Fragment: {"Kids", "Host"}, api.Doctype: {"Name", "Public", "System"}, api.Element: {"Kids", "Space", "Name", "Attrs"},
		api.Text: {"Data"}, api.Comment: {"Data"},
	}
	for kind, fields := range used {
		nodes := []api.Node{{Kind: api.Document, Doc: 1}, {Kind: kind, Doc: 1}}
		if kind == api.Document {
			nodes[1].Doc = 2
		}
		if !arena.Sound(nodes) {
			t.Errorf("%+v is not sound", nodes)
		}
		for field, spoil := range spoilers() {
			spoilt := slices.Clone(nodes)
			spoil(&spoilt[1])
			free := field != "Kids" && field != "Host" && slices.Contains(fields, field) // a link is wrong here even if it is used
			if sound := checkSound(t, spoilt); field != "Kind" && field != "Doc" && sound != free {
				t.Errorf("kind %d with a spoilt %s: %v", kind, field, sound)
			}
		}
	}
}

// P4.6: one wrong list for each condition.
func TestUnsound(t *testing.T) {
	element := func(n api.Node) api.Node {
		n.Kind, n.Doc, n.Space, n.Name = api.Element, 1, api.HTML, "p"
		return n
	}
	template := func(contents, parent int, kids ...int) api.Node {
		return api.Node{Kind: api.Element, Doc: 1, Space: api.HTML, Name: "template", Contents: contents, Parent: parent, Kids: kids}
	}
	contents := func(host int, kids ...int) api.Node {
		return api.Node{Kind: api.Fragment, Doc: 1, Host: host, Kids: kids}
	}
	doc := api.Node{Kind: api.Document, Doc: 1}
	for what, nodes := range map[string][]api.Node{
		"no kind":                              {{Doc: 1}},
		"kind 7":                               {doc, {Kind: 7, Doc: 1}},
		"no document":                          {{Kind: api.Fragment, Doc: 1}},
		"a document with another document":     {doc, {Kind: api.Document, Doc: 1}},
		"a document without a document":        {{Kind: api.Document}},
		"a parent that does not know":          {doc, element(api.Node{Parent: 3}), element(api.Node{})},
		"a child that does not know":           {doc, element(api.Node{}), element(api.Node{Kids: []int{2}})},
		"a child of two":                       {doc, element(api.Node{Parent: 3}), element(api.Node{Kids: []int{2}}), element(api.Node{Kids: []int{2}})},
		"a child twice":                        {doc, element(api.Node{Parent: 3}), element(api.Node{Kids: []int{2, 2}})},
		"an element in itself":                 {doc, element(api.Node{Parent: 2, Kids: []int{2}})},
		"two elements in each other":           {doc, element(api.Node{Parent: 3, Kids: []int{3}}), element(api.Node{Parent: 2, Kids: []int{2}})},
		"three elements in each other":         {doc, element(api.Node{Parent: 4, Kids: []int{3}}), element(api.Node{Parent: 2, Kids: []int{4}}), element(api.Node{Parent: 3, Kids: []int{2}})},
		"a template in its contents":           {doc, template(3, 3), contents(2, 2)},
		"a template below its contents":        {doc, template(3, 4), contents(2, 4), element(api.Node{Parent: 3, Kids: []int{2}})},
		"two templates in each other":          {doc, template(3, 5), contents(2, 4), template(5, 3), contents(4, 2)},
		"a fragment in an element":             {doc, element(api.Node{Kids: []int{3}}), {Kind: api.Fragment, Doc: 1, Parent: 2}},
		"a document in an element":             {doc, element(api.Node{Kids: []int{3}}), {Kind: api.Document, Doc: 3, Parent: 2}},
		"contents in their template":           {doc, template(3, 0, 3), {Kind: api.Fragment, Doc: 1, Host: 2, Parent: 2}},
		"text in text":                         {doc, {Kind: api.Text, Doc: 1, Kids: []int{3}}, {Kind: api.Text, Doc: 1, Parent: 2}},
		"text with a parent that is text":      {doc, {Kind: api.Text, Doc: 1}, {Kind: api.Text, Doc: 1, Parent: 2}},
		"a parent that does not exist":         {doc, element(api.Node{Parent: 4})},
		"a negative parent":                    {doc, element(api.Node{Parent: -1})},
		"a child that does not exist":          {doc, element(api.Node{Kids: []int{3}})},
		"no child":                             {doc, element(api.Node{Kids: []int{0}})},
		"no contents":                          {doc, template(0, 0)},
		"contents that do not exist":           {doc, template(3, 0)},
		"contents that are an element":         {doc, template(3, 0), element(api.Node{})},
		"contents of nobody":                   {doc, template(3, 0), contents(0)},
		"contents of two templates":            {doc, template(3, 0), contents(2), template(3, 0)},
		"a template with two contents":         {doc, template(3, 0), contents(2), contents(2)},
		"contents of another template":         {doc, template(3, 0), contents(4), template(5, 0), contents(4)},
		"swapped contents":                     {doc, template(5, 0), contents(2), template(3, 0), contents(4)},
		"contents of an element":               {doc, element(api.Node{}), contents(2)},
		"contents of a template of SVG":        {doc, {Kind: api.Element, Doc: 1, Space: api.SVG, Name: "template", Contents: 3}, contents(2)},
		"a host of contents that is their own": {doc, contents(2)},
		"a host that does not exist":           {doc, contents(9)},
		"a negative host":                      {doc, contents(-1)},
		"equal attributes":                     {doc, element(api.Node{Attrs: []api.Attr{attr(0, "a", "1"), attr(0, "b", ""), attr(0, "a", "2")}})},
		"a namespace of an attribute":          {doc, element(api.Node{Attrs: []api.Attr{attr(8, "a", "1")}})},
		"a namespace":                          {doc, {Kind: api.Element, Doc: 1, Space: 8, Name: "a"}},
		"a negative namespace":                 {doc, {Kind: api.Element, Doc: 1, Space: -1, Name: "a"}},
	} {
		if arena.Sound(nodes) || soundByRules(nodes) {
			t.Errorf("%s: %+v is sound", what, nodes)
		}
	}
	for _, nodes := range [][]api.Node{
		{doc, template(3, 0), contents(2)},
		{doc, contents(3), template(2, 0)},
		{doc, template(3, 4), contents(2, 5), element(api.Node{Kids: []int{2}}), element(api.Node{Parent: 3})},
		{doc, template(3, 5), contents(2), template(5, 0), contents(4, 2)},
		{{Kind: api.Text, Doc: 2}, {Kind: api.Document, Doc: 2}},
		{{Kind: api.Document, Doc: 1, Kids: []int{2}}, {Kind: api.Text, Doc: 3, Parent: 1}, {Kind: api.Document, Doc: 3}},
		{doc, element(api.Node{Attrs: []api.Attr{attr(0, "a", "1"), attr(1, "a", "1"), attr(0, "A", "1")}})},
	} {
		if !arena.Sound(nodes) || !soundByRules(nodes) {
			t.Errorf("%+v is not sound", nodes)
		}
	}
}

// P4.6: all lists of a document and two nodes with these links.
func TestSoundLinks(t *testing.T) {
	var some []api.Node
	for _, n := range []api.Node{{Kind: api.Fragment}, {Kind: api.Element, Space: api.HTML, Name: "p"}, {Kind: api.Element, Space: api.HTML, Name: "template"}, {Kind: api.Text}} {
		for _, n.Parent = range []int{0, 1, 2, 3} {
			for _, n.Kids = range [][]int{nil, {2}, {3}, {2, 3}} {
				for _, n.Contents = range []int{0, 2, 3} {
					for _, n.Host = range []int{0, 2, 3} {
						n.Doc = 1
						some = append(some, n)
					}
				}
			}
		}
	}
	sound := 0
	for _, kids := range [][]int{nil, {2}, {3}, {3, 2}} {
		for _, x := range some {
			for _, y := range some {
				if checkSound(t, []api.Node{{Kind: api.Document, Doc: 1, Kids: kids}, x, y}) {
					sound++
				}
			}
		}
	}
	if sound < 20 {
		t.Errorf("only %d lists are sound", sound)
	}
}

// P4.6, R4: Sound does not change its list.
func TestSoundChangesNothing(t *testing.T) {
	nodes := page(t).Nodes()
	nodes[13].Attrs = []api.Attr{attr(0, "b", "1"), attr(0, "a", "2"), attr(0, "b", "3")}
	want := []api.Attr{attr(0, "b", "1"), attr(0, "a", "2"), attr(0, "b", "3")}
	for range 2 {
		if arena.Sound(nodes) || !slices.Equal(nodes[13].Attrs, want) {
			t.Errorf("%+v", nodes)
		}
	}
	nodes[13].Attrs = pageByRules().node(14).Attrs
	if !sameNodes(nodes, pageByRules().nodes) {
		t.Errorf("%+v", nodes)
	}
}
