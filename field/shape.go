package field

// shape is what a piece is: its name; whether it is raw; how many bytes it has (0: as many as there are); whether an end stands behind it.
type shape struct {
	name   string
	raw    bool
	size   int
	closed bool
}

// shapeOf is what a letter of a layout tells.
func shapeOf(letter byte) shape {
	switch letter {
	case 'l':
		return shape{name: "language", raw: true, size: 3}
	case 'f':
		return shape{name: "format", raw: true, size: 3}
	case 'z':
		return shape{name: "mime", raw: true, closed: true}
	case 'k':
		return shape{name: "kind", raw: true, size: 1}
	case 'd':
		return shape{name: "description", closed: true}
	case 't':
		return shape{name: "text"}
	}
	return shape{name: "data", raw: true}
}
